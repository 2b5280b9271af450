/- WideGets: a walk. -/
import Derived.Test.YtkfcciacoplgmaaRefGet
import Derived.Test.YtkfcciacoplgmaaRefUnit
import Derived.Test.YtkfcciacoplgmaaRegion
import Derived.Test.YtkfcciacoplgmaaArgs
import Derived.Below
import Derived.Deep.RegionHeld3
import Derived.BigQuiet
namespace Go.Proofs.Ytkfcciacoplgmaa.Wd
open Go.ChangeShapes Go.WideShapes Go.ChangeAt Go.RowKit Go.Proofs.Ytkfcciacoplgmaa.Mem Go.Proofs.Ytkfcciacoplgmaa.Ucs
set_option linter.unusedVariables false
set_option linter.unusedSimpArgs false

theorem below_g {w w' : World} (h : w.grownBy w' none) : Below w.heap.size w w' := (Below.refl _ w).grown h (Nat.le_refl _) (by simp)
set_option maxRecDepth 100000 in
set_option maxHeartbeats 4000000 in
theorem has_lit (k : Int) (t : Bool) (ht : (fm k).isSome = t) (w : World) : Calls Try.prog 11 #[.int .i64 k] w fun e w' => e = .returned (.bool t) ∧ w.grownBy w' none := by
  subst ht
  cases h : fm k with
  | none =>
    have hk := fm_none h
    have Hk : Hid (k < 3 ∨ 10 < k) := hk
    clear hk h
    go_enter Try.func11, Try.ntmps11
    go_wp2_with (go_at_call 28; refine (formOf_none k Hk.out _).mono ?_; rintro e w1 ⟨rfl, hg1⟩)
    go_ret
    exact ⟨rfl, by (repeat (first | with_reducible exact grownBy_refl _ _ | (with_reducible refine gs ?_ ?_; first | omega | (simp; omega)) | with_reducible refine ga ?_ | with_reducible refine gd ?_ | with_reducible refine gdn ?_ | with_reducible refine gt ?_ (by assumption)))⟩
  | some f =>
    obtain ⟨n, p, m, low⟩ := f
    have Hk : Hid (fm k = some (n, p, m, low)) := h
    clear h
    go_enter Try.func11, Try.ntmps11
    go_wp2_with (go_at_call 28; refine (formOf_some k n p m low Hk.out _).mono ?_; rintro e w1 ⟨rfl, hg1⟩)
    go_ret
    exact ⟨rfl, by (repeat (first | with_reducible exact grownBy_refl _ _ | (with_reducible refine gs ?_ ?_; first | omega | (simp; omega)) | with_reducible refine ga ?_ | with_reducible refine gd ?_ | with_reducible refine gdn ?_ | with_reducible refine gt ?_ (by assumption)))⟩
theorem hasR_lit (k : Int) (t : Bool) (ht : (fm k).isSome = t) (w : World) : Calls Try.prog 12 #[.int .i64 k] w fun e w' => e = .returned (.bool t) ∧ w' = w := by
  subst ht
  cases h : fm k with
  | none => exact hasR_none k (fm_none h) w
  | some f => exact hasR_any h w
theorem own_made2 (w : World) (o : Obj) : Own ((w.alloc o).alloc (.cells #[] 5)) (some ⟨w.heap.size + 1, 0, none⟩) 0 [] := by
  have := own_made (w.alloc o)
  simpa using this
theorem held_of {w wa wx : World} {md bi ac he : Int} {ao ao' : Option Addr} {L : List UInt8} (c' cap : Nat) (hst : wa.heap[w.heap.size]? = some (.cells #[.int .i64 md, .int .i64 bi, .int .u32 ac, .int .i32 he] 24 (0, 0))) (h1 : Bytes wa ao' L) (h2 : Bytes wa ao L) (hg : wa.grownBy wx none) :
    wx.cell? ⟨w.heap.size, 0, none⟩ = some (.int .i64 md) ∧ wx.cell? ⟨w.heap.size, 1, none⟩ = some (.int .i64 bi) ∧ wx.cell? ⟨w.heap.size, 2, none⟩ = some (.int .u32 ac) ∧ wx.cell? ⟨w.heap.size, 3, none⟩ = some (.int .i32 he) ∧ (convert 25 9 (.slice ao' L.length c')).run Try.prog wx = .ok (.string (str L)) wx ∧ (convert 25 9 (.slice ao L.length cap)).run Try.prog wx = .ok (.string (str L)) wx := by
  have h := blk_kept hst hg
  exact ⟨cell_at h 0 rfl, cell_at h 1 rfl, cell_at h 2 rfl, cell_at h 3 rfl, conv (h1.kept0 hg) _ _ _ Try.underlying25 Try.underlying5 Try.underlying9, conv (h2.kept0 hg) _ _ _ Try.underlying25 Try.underlying5 Try.underlying9⟩

set_option maxRecDepth 100000 in
set_option maxHeartbeats 4000000 in
theorem gets_walk (k md bi ac he : Int) (ao : Option Addr) (cap : Nat) (L : List UInt8) (w : World) (hB : Bytes w ao L) (hLc : L.length ≤ cap) (hcm : cap ≤ 140737488351232) :
    Calls Try.prog 3 #[.int .i64 k, .agg #[.int .i64 md, .int .i64 bi, .int .u32 ac, .int .i32 he], .slice ao L.length cap] w fun e w' => e = .returned (.bool true) ∧ Below w.heap.size w w' := by
  obtain ⟨R, hR⟩ : ∃ R, Hid (getR k md bi ac he L = R) := ⟨_, (rfl : getR k md bi ac he L = getR k md bi ac he L)⟩
  obtain ⟨t, ht⟩ : ∃ t, Hid ((fm k).isSome = t) := ⟨_, (rfl : (fm k).isSome = (fm k).isSome)⟩
  obtain ⟨i0, hi, hz0, hz1, hz2⟩ := info_parts info5
  have HB : Hid (Bytes w ao L) := hB
  have hLl : L.length ≤ 140737488351232 := by omega
  clear hB
  go_enter Try.func3, Try.ntmps3
  go_wp2_with (at_builtin; refine wpList_append_any _ rfl _ _ 25 25 rfl i0 Try.underlying25 hi hz0 hz1 hz2 _ _ [] rfl (own_made2 _ _) _ rfl L (src_of ((HB.out.alloc _).alloc _) 25 cap Try.underlying25) (by simp; omega) L rfl ?_; intro ao' c' wa hown hga hat)
  have hst : Hid (wa.heap[w.heap.size]? = some (.cells #[.int .i64 md, .int .i64 bi, .int .u32 ac, .int .i32 he] 24 (0, 0))) := by
    refine (?_ : wa.heap[w.heap.size]? = _)
    rw [hga.block _ (by simp; omega) (by simp [blk])]
    exact res_alloc (heap_alloc_new w _) _
  have hgw : Hid (w.grownBy wa none) := grownBy_new (ga (ga (grownBy_refl _ _))) hga (by intro g e; simp [blk] at e; omega)
  have h1 : Hid (Bytes wa ao' L) := hown.bytes
  have h2 : Hid (Bytes wa ao L) := HB.out.kept0 hgw.out
  have q1 := hown.cap_le
  have q2 := hown.cap_max
  have hS0 := held_of c' cap hst.out h1.out h2.out (gd (grownBy_refl wa none))
  clear hown hga hat HB
  go_region_held3 (fun w' => w'.cell? ⟨w.heap.size, 0, none⟩ = some (.int .i64 md) ∧ w'.cell? ⟨w.heap.size, 1, none⟩ = some (.int .i64 bi) ∧ w'.cell? ⟨w.heap.size, 2, none⟩ = some (.int .u32 ac) ∧ w'.cell? ⟨w.heap.size, 3, none⟩ = some (.int .i32 he) ∧ (convert 25 9 (.slice ao' L.length c')).run Try.prog w' = .ok (.string (str L)) w' ∧ (convert 25 9 (.slice ao L.length cap)).run Try.prog w' = .ok (.string (str L)) w') (first | assumption | exact hS0) (first | (go_at_call 9; refine (get_any k md bi ac he _ L.length c' L _ ?_ rfl (by omega) q1 q2 R hR.out).mono ?_; exact h1.out.kept0 (by (repeat (first | with_reducible exact grownBy_refl _ _ | (with_reducible refine gs ?_ ?_; first | omega | (simp; omega)) | with_reducible refine ga ?_ | with_reducible refine gd ?_ | with_reducible refine gdn ?_ | with_reducible refine gt ?_ (by assumption)))); rintro e w1 ⟨rfl, hg1⟩; have hS1 := held_of c' cap hst.out h1.out h2.out (show wa.grownBy w1 none by (repeat (first | with_reducible exact grownBy_refl _ _ | (with_reducible refine gs ?_ ?_; first | omega | (simp; omega)) | with_reducible refine ga ?_ | with_reducible refine gd ?_ | with_reducible refine gdn ?_ | with_reducible refine gt ?_ (by assumption))))) | (go_at_call 10; refine (getRef_any k md bi ac he _ L.length cap L _ ?_ rfl (by omega) hLc (by omega) R hR.out).mono ?_; exact h2.out.kept0 (by (repeat (first | with_reducible exact grownBy_refl _ _ | (with_reducible refine gs ?_ ?_; first | omega | (simp; omega)) | with_reducible refine ga ?_ | with_reducible refine gd ?_ | with_reducible refine gdn ?_ | with_reducible refine gt ?_ (by assumption)))); rintro e w2 ⟨rfl, hg2⟩; have hS2 := held_of c' cap hst.out h1.out h2.out (show wa.grownBy w2 none by (repeat (first | with_reducible exact grownBy_refl _ _ | (with_reducible refine gs ?_ ?_; first | omega | (simp; omega)) | with_reducible refine ga ?_ | with_reducible refine gd ?_ | with_reducible refine gdn ?_ | with_reducible refine gt ?_ (by assumption))))) | (go_at_call 11; refine (has_lit k t ht.out _).mono ?_; rintro e w3 ⟨rfl, hg3⟩; have hS3 := held_of c' cap hst.out h1.out h2.out (show wa.grownBy w3 none by (repeat (first | with_reducible exact grownBy_refl _ _ | (with_reducible refine gs ?_ ?_; first | omega | (simp; omega)) | with_reducible refine ga ?_ | with_reducible refine gd ?_ | with_reducible refine gdn ?_ | with_reducible refine gt ?_ (by assumption))))) | (go_at_call 12; refine (hasR_lit k t ht.out _).mono ?_; rintro e wq ⟨rfl, hw⟩; obtain rfl := hw))
  go_wp2
  go_ret
  refine ⟨rfl, below_g ?_⟩
  have hgw2 := hgw.out
  (repeat (first | with_reducible exact grownBy_refl _ _ | (with_reducible refine gs ?_ ?_; first | omega | (simp; omega)) | with_reducible refine ga ?_ | with_reducible refine gd ?_ | with_reducible refine gdn ?_ | with_reducible refine gt ?_ (by assumption)))
end Go.Proofs.Ytkfcciacoplgmaa.Wd
