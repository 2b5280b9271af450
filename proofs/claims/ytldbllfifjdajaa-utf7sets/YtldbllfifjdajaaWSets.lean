/- Utf7Sets: a walk. -/
import Derived.Test.YtldbllfifjdajaaSetAll
import Derived.Below
import Derived.Deep.RegionHeld3
import Derived.BigQuiet
namespace Go.Proofs.Ytldbllfifjdajaa.Sv
open Go.ChangeShapes Go.WideShapes Go.ChangeAt Go.RowKit Go.Proofs.Ytldbllfifjdajaa.Mem Go.Proofs.Ytldbllfifjdajaa.Ucs
set_option linter.unusedVariables false
set_option linter.unusedSimpArgs false

theorem below_w {w w' : World} (h : w.grownBy w' none) : Below w.heap.size w w' := (Below.refl _ w).grown h (Nat.le_refl _) (by simp)
theorem first_blk {w wx : World} {md bi ac he : Int} (hg : (w.alloc (.cells #[.int .i64 md, .int .i64 bi, .int .u32 ac, .int .i32 he] 24)).grownBy wx none) :
    wx.heap[w.heap.size]? = some (.cells #[.int .i64 md, .int .i64 bi, .int .u32 ac, .int .i32 he] 24 (0, 0)) := blk_kept (heap_alloc_new w _) hg
theorem held_st {w wa wx : World} {md bi ac he : Int} (hst : wa.heap[w.heap.size]? = some (.cells #[.int .i64 md, .int .i64 bi, .int .u32 ac, .int .i32 he] 24 (0, 0))) (hg : wa.grownBy wx none) :
    wx.cell? ⟨w.heap.size, 0, none⟩ = some (.int .i64 md) ∧ wx.cell? ⟨w.heap.size, 1, none⟩ = some (.int .i64 bi) ∧ wx.cell? ⟨w.heap.size, 2, none⟩ = some (.int .u32 ac) ∧ wx.cell? ⟨w.heap.size, 3, none⟩ = some (.int .i32 he) := by
  have h := blk_kept hst hg
  exact ⟨cell_at h 0 rfl, cell_at h 1 rfl, cell_at h 2 rfl, cell_at h 3 rfl⟩
set_option maxRecDepth 100000 in
set_option maxHeartbeats 1000000 in
theorem sets_walk (md bi ac he u : Int) (hac : 0 ≤ ac) (w : World) : Calls Try.prog 3 #[.agg #[.int .i64 md, .int .i64 bi, .int .u32 ac, .int .i32 he], .int .i32 u] w fun e w' => e = .returned (.bool true) ∧ Below w.heap.size w w' := by
  obtain ⟨R, hR⟩ : ∃ R, Hid (setR md bi ac he u = R) := ⟨_, (rfl : setR md bi ac he u = setR md bi ac he u)⟩
  obtain ⟨s, hs⟩ : ∃ s, Hid (str R.L = s) := ⟨_, (rfl : str R.L = str R.L)⟩
  obtain ⟨p, hp⟩ : ∃ p, Hid (endP md bi ac he = p) := ⟨_, (rfl : endP md bi ac he = endP md bi ac he)⟩
  obtain ⟨x, hx⟩ : ∃ x, Hid (str p.2 = x) := ⟨_, (rfl : str p.2 = str p.2)⟩
  go_enter Try.func3, Try.ntmps3
  go_wp2_with (first | (go_at_call 4; refine (end_any md bi ac he hac _ p hp.out x hx.out).mono ?_; rintro e w1 ⟨rfl, hg1⟩; have sb1 := Hid.mk' (first_blk hg1); have rs0 := cell_at sb1.out 0 rfl; have rs1 := cell_at sb1.out 1 rfl; have rs2 := cell_at sb1.out 2 rfl; have rs3 := cell_at sb1.out 3 rfl; have fz := froz_at sb1.out) | (go_at_call 5; refine (endR_any md bi ac he hac _ p hp.out x hx.out).mono ?_; rintro e w2 ⟨rfl, hg2⟩; have sb2 := Hid.mk' (blk_kept sb1.out hg2); clear rs0 rs1 rs2 rs3 fz; have rs0 := cell_at sb2.out 0 rfl; have rs1 := cell_at sb2.out 1 rfl; have rs2 := cell_at sb2.out 2 rfl; have rs3 := cell_at sb2.out 3 rfl; have fz := froz_at sb2.out))
  have hgw : Hid (w.grownBy w2 none) := (gt (gt (ga (grownBy_refl _ _)) hg1) hg2 : w.grownBy w2 none)
  have hS0 := held_st sb2.out (gd (grownBy_refl w2 none))
  clear rs0 rs1 rs2 rs3 fz
  go_region_held3 (fun w' => w'.cell? ⟨w.heap.size, 0, none⟩ = some (.int .i64 md) ∧ w'.cell? ⟨w.heap.size, 1, none⟩ = some (.int .i64 bi) ∧ w'.cell? ⟨w.heap.size, 2, none⟩ = some (.int .u32 ac) ∧ w'.cell? ⟨w.heap.size, 3, none⟩ = some (.int .i32 he)) (first | assumption | exact hS0) (first | (go_at_call 6; refine (set_any md bi ac he u hac _ R hR.out s hs.out).mono ?_; rintro e w3 ⟨rfl, hg3⟩; have hS1 := held_st sb2.out (show w2.grownBy w3 none by (repeat (first | with_reducible exact grownBy_refl _ _ | (with_reducible refine gs ?_ ?_; first | omega | (simp; omega)) | with_reducible refine ga ?_ | with_reducible refine gd ?_ | with_reducible refine gdn ?_ | with_reducible refine gt ?_ (by assumption))))) | (go_at_call 7; refine (setRef_any md bi ac he u hac _ R hR.out s hs.out).mono ?_; rintro e w4 ⟨rfl, hg4⟩; have hS2 := held_st sb2.out (show w2.grownBy w4 none by (repeat (first | with_reducible exact grownBy_refl _ _ | (with_reducible refine gs ?_ ?_; first | omega | (simp; omega)) | with_reducible refine ga ?_ | with_reducible refine gd ?_ | with_reducible refine gdn ?_ | with_reducible refine gt ?_ (by assumption))))))
  go_wp2
  go_ret
  refine ⟨rfl, below_w ?_⟩
  have hgw2 := hgw.out
  (repeat (first | with_reducible exact grownBy_refl _ _ | (with_reducible refine gs ?_ ?_; first | omega | (simp; omega)) | with_reducible refine ga ?_ | with_reducible refine gd ?_ | with_reducible refine gdn ?_ | with_reducible refine gt ?_ (by assumption)))
end Go.Proofs.Ytldbllfifjdajaa.Sv
