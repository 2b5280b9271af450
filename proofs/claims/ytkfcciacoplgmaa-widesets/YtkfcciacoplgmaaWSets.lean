/- WideSets: a walk. -/
import Derived.Test.YtkfcciacoplgmaaRefSet
import Derived.Below
import Derived.Deep.RegionHeld3
import Derived.BigQuiet
namespace Go.Proofs.Ytkfcciacoplgmaa.Wd
open Go.ChangeShapes Go.WideShapes Go.ChangeAt Go.RowKit Go.Proofs.Ytkfcciacoplgmaa.Mem Go.Proofs.Ytkfcciacoplgmaa.Ucs
set_option linter.unusedVariables false
set_option linter.unusedSimpArgs false

theorem below_w {w w' : World} (h : w.grownBy w' none) : Below w.heap.size w w' := (Below.refl _ w).grown h (Nat.le_refl _) (by simp)
set_option maxRecDepth 100000 in
set_option maxHeartbeats 4000000 in
theorem sets_walk (k md bi ac he u : Int) (w : World) : Calls Try.prog 4 #[.int .i64 k, .agg #[.int .i64 md, .int .i64 bi, .int .u32 ac, .int .i32 he], .int .i32 u] w fun e w' => e = .returned (.bool true) ∧ Below w.heap.size w w' := by
  obtain ⟨R, hR⟩ : ∃ R, Hid (setR k md bi ac he u = R) := ⟨_, (rfl : setR k md bi ac he u = setR k md bi ac he u)⟩
  obtain ⟨s, hs⟩ : ∃ s, Hid (str R.L = s) := ⟨_, (rfl : str R.L = str R.L)⟩
  go_enter Try.func4, Try.ntmps4
  go_wp2
  go_region_with (first | (go_at_call 13; refine (set_any k md bi ac he u _ R hR.out s hs.out).mono ?_; rintro e w1 ⟨rfl, hg1⟩; have sb := blk_kept (show (w.alloc (.cells #[.int .i64 md, .int .i64 bi, .int .u32 ac, .int .i32 he] 24)).drew.heap[w.heap.size]? = some _ from heap_alloc_new w (.cells #[.int .i64 md, .int .i64 bi, .int .u32 ac, .int .i32 he] 24)) hg1; have rs0 := cell_at sb 0 rfl; have rs1 := cell_at sb 1 rfl; have rs2 := cell_at sb 2 rfl; have rs3 := cell_at sb 3 rfl; have fzs := froz_at sb; clear sb) | (go_at_call 14; refine (setRef_any k md bi ac he u _ R hR.out s hs.out).mono ?_; rintro e w2 ⟨rfl, hg2⟩))
  all_goals go_wp2
  all_goals go_ret
  all_goals refine ⟨rfl, below_w ?_⟩
  all_goals (repeat (first | with_reducible exact grownBy_refl _ _ | (with_reducible refine gs ?_ ?_; first | omega | (simp; omega)) | with_reducible refine ga ?_ | with_reducible refine gd ?_ | with_reducible refine gdn ?_ | with_reducible refine gt ?_ (by assumption)))
end Go.Proofs.Ytkfcciacoplgmaa.Wd
