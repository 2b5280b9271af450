/- The small functions of ranges: walks. -/
import Derived.Test.YtcoiddmgcoeocaaRp
import Derived.Test.YtcoiddmgcoeocaaTells
import Derived.Laws.EntriesVeiled
import Derived.Deep.RegionHeld3
import Derived.BigQuiet
namespace Go.Proofs.Ytcoiddmgcoeocaa.Rn
open Go.ChangeShapes Go.WideShapes Go.ChangeAt Go.RowKit Go.Proofs.Ytcoiddmgcoeocaa.Mem Go.Proofs.Ytcoiddmgcoeocaa.Ucs Go.Proofs.Ytcoiddmgcoeocaa.El
set_option linter.unusedVariables false
set_option linter.unusedSimpArgs false

abbrev rV (f t a : Int) : Value := .agg #[.int .i64 f, .int .i64 t, .int .i32 a]
abbrev pV (c u : Int) : Value := .agg #[.int .i64 c, .int .i32 u]

theorem code_any (c : Int) (w : World) : Calls Try.prog 45 #[.int .i64 c] w fun e w' => e = .returned (.bool (rightC c)) ∧ w' = w := by
  by_cases h : 0 ≤ c
  · by_cases k : c ≤ 16777215
    · go_enter Try.func45, Try.ntmps45
      go_wp2
      go_ret
      exact ⟨ret_bool (by simp [rightC, h, k]), rfl⟩
    · go_enter Try.func45, Try.ntmps45
      go_wp2
      go_ret
      exact ⟨ret_bool (by simp [rightC]; omega), rfl⟩
  · go_enter Try.func45, Try.ntmps45
    go_wp2
    go_ret
    exact ⟨ret_bool (by simp [rightC]; omega), rfl⟩

theorem scalar_lit (u : Int) (b : Bool) (h : scB u = b) (w : World) : Calls Try.prog 46 #[.int .i32 u] w fun e w' => e = .returned (.bool b) ∧ w' = w := by
  subst h; exact scalar_any u w
theorem code_lit (u : Int) (b : Bool) (h : rightC u = b) (w : World) : Calls Try.prog 45 #[.int .i64 u] w fun e w' => e = .returned (.bool b) ∧ w' = w := by
  subst h; exact code_any u w

theorem follows_any (c u d v : Int) (hc : c ≤ 16777215) (h0 : 0 ≤ c) (hu : u ≤ 1114111) (u0 : 0 ≤ u) (w : World) : Calls Try.prog 32 #[pV c u, pV d v] w fun e w' => e = .returned (.bool (decide (d = c + 1) && decide (v = u + 1))) ∧ w.grownBy w' none := by
  by_cases h : d = c + 1
  · go_enter Try.func32, Try.ntmps32
    go_wp2
    go_ret
    refine ⟨ret_bool ?_, ?_⟩
    · by_cases k : v = u + 1 <;> simp [h, k]
    (repeat (first | with_reducible exact grownBy_refl _ _ | (with_reducible refine gs ?_ ?_; first | omega | (simp; omega)) | with_reducible refine ga ?_ | with_reducible refine gd ?_ | with_reducible refine gdn ?_ | with_reducible refine gt ?_ (by assumption)))
  · go_enter Try.func32, Try.ntmps32
    go_wp2
    go_ret
    refine ⟨ret_bool (by simp [h]), ?_⟩
    (repeat (first | with_reducible exact grownBy_refl _ _ | (with_reducible refine gs ?_ ?_; first | omega | (simp; omega)) | with_reducible refine ga ?_ | with_reducible refine gd ?_ | with_reducible refine gdn ?_ | with_reducible refine gt ?_ (by assumption)))

set_option maxRecDepth 100000 in
theorem at_any (f t a c : Int) (hf : 0 ≤ f) (hc : f ≤ c) (hc1 : c ≤ 16777215) (ha : 0 ≤ a) (ha1 : a + (c - f) ≤ 1114111) (w : World) : Calls Try.prog 33 #[rV f t a, .int .i64 c] w fun e w' => e = .returned (.int .i32 (a + (c - f))) ∧ w.grownBy w' none := by
  go_enter Try.func33, Try.ntmps33
  go_wp2
  go_ret
  refine ⟨rfl, ?_⟩
  (repeat (first | with_reducible exact grownBy_refl _ _ | (with_reducible refine gs ?_ ?_; first | omega | (simp; omega)) | with_reducible refine ga ?_ | with_reducible refine gd ?_ | with_reducible refine gdn ?_ | with_reducible refine gt ?_ (by assumption)))
end Go.Proofs.Ytcoiddmgcoeocaa.Rn
