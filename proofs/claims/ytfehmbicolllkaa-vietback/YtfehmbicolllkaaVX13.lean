/- VietGets: the walk. -/
import Derived.Test.YtfehmbicolllkaaVW13
import Derived.Test.YtfehmbicolllkaaRegion
import Derived.Test.YtfehmbicolllkaaArgs
import Derived.Deep.RegionHeld3
import Derived.BigQuiet
namespace Go.Proofs.Ytfehmbicolllkaa.C13
open Go.ChangeShapes Go.WideShapes Go.ChangeAt Go.RowKit Go.Proofs.Ytfehmbicolllkaa.Mem
set_option linter.unusedVariables false
set_option linter.unusedSimpArgs false

theorem info5 : (Try.prog.info? 5).map (fun i => (i.zero, i.size, i.bytes)) = some (some (.int .u8 0), 1, 1) := by kernel_rfl
theorem info_parts {o : Option TypeInfo} {z : Option Value} {a b : Nat} (h : o.map (fun i => (i.zero, i.size, i.bytes)) = some (z, a, b)) : ∃ i, o = some i ∧ i.zero = z ∧ i.size = a ∧ i.bytes = b := by
  cases o with
  | none => simp at h
  | some i => simp at h; exact ⟨i, rfl, h⟩
theorem own_made2 (w : World) (o : Obj) : Own ((w.alloc o).alloc (.cells #[] 5)) (some ⟨w.heap.size + 1, 0, none⟩) 0 [] := by
  have := own_made (w.alloc o)
  simpa using this
theorem held_of {w wa wx : World} {md bi ac he : Int} {ao ao' : Option Addr} {L : List UInt8} (c' cap : Nat) (hst : wa.heap[w.heap.size]? = some (.cells #[.int .i64 md, .int .i64 bi, .int .u32 ac, .int .i32 he] 29 (0, 0))) (h1 : Bytes wa ao' L) (h2 : Bytes wa ao L) (hg : wa.grownBy wx none) :
    wx.cell? ⟨w.heap.size, 0, none⟩ = some (.int .i64 md) ∧ wx.cell? ⟨w.heap.size, 1, none⟩ = some (.int .i64 bi) ∧ wx.cell? ⟨w.heap.size, 2, none⟩ = some (.int .u32 ac) ∧ wx.cell? ⟨w.heap.size, 3, none⟩ = some (.int .i32 he) ∧ (convert 30 9 (.slice ao' L.length c')).run Try.prog wx = .ok (.string (str L)) wx ∧ (convert 30 9 (.slice ao L.length cap)).run Try.prog wx = .ok (.string (str L)) wx := by
  have h := blk_kept hst hg
  exact ⟨cell_at h 0 rfl, cell_at h 1 rfl, cell_at h 2 rfl, cell_at h 3 rfl, conv (h1.kept0 hg) _ _ _ Try.underlying30 Try.underlying5 Try.underlying9, conv (h2.kept0 hg) _ _ _ Try.underlying30 Try.underlying5 Try.underlying9⟩

theorem gtV_is (he : Int) (n : Nat) : ∃ e k a b h, gtV he n = vgV e 1 k a b h := by
  unfold gtV
  repeat' split
  all_goals exact ⟨_, _, _, _, _, rfl⟩
theorem geV_is (md bi ac he : Int) (L : List UInt8) : ∃ e n k a b h, geV md bi ac he L = vgV e n k a b h := by
  unfold geV
  split
  · cases L with
    | nil => exact ⟨_, _, _, _, _, _, rfl⟩
    | cons c L =>
      obtain ⟨e, k, a, b, h, hh⟩ := gtV_is he (vsR c.toNat)
      exact ⟨e, 1, k, a, b, h, hh⟩
  · exact ⟨_, _, _, _, _, _, rfl⟩
set_option maxRecDepth 100000 in
set_option maxHeartbeats 4000000 in
theorem gets_walk {P : World → Prop} (C : Con P) (md bi ac he : Int) (ao : Option Addr) (cap : Nat) (L : List UInt8) (w : World) (hw : P w) (hB : Bytes w ao L) (hLc : L.length ≤ cap) (hcm : cap ≤ 140737488351232) :
    Calls Try.prog 4 #[.agg #[.int .i64 md, .int .i64 bi, .int .u32 ac, .int .i32 he], .slice ao L.length cap] w fun e w' => e = .returned (.bool true) ∧ w.grownBy w' none := by
  obtain ⟨t, ht⟩ : ∃ t, Hid (fitR md bi ac he = t) := ⟨_, Hid.mk' rfl⟩
  obtain ⟨⟨z, ok⟩, hD⟩ : ∃ p, drT md bi ac he = p := ⟨_, rfl⟩
  obtain ⟨ge, gn, gk, g1, g2, gh, hG⟩ := geV_is md bi ac he L
  have hD0 := Hid.mk' hD
  have a1 := Hid.mk' (fun w hw => C.drain md bi ac he w z ok hD0 hw)
  have a2 := Hid.mk' (fun w => drain_any md bi ac he w z ok hD0)
  have a3 : Hid (∀ ao cap w, Bytes w ao L → L.length ≤ cap → cap ≤ 9223372036854775807 → P w → Calls Try.prog 15 #[stV md bi ac he, .slice ao L.length cap] w fun e w' => e = .returned (vgV ge gn gk g1 g2 gh) ∧ w.grownBy w' none) := Hid.mk' (fun ao cap w hB h1 h2 hw => by
    have := C.get md bi ac he ao cap L L.length rfl w hB h1 h2 hw
    rwa [hG] at this)
  have a4 : Hid (∀ ao cap w, Bytes w ao L → L.length ≤ cap → cap ≤ 9223372036854775807 → Calls Try.prog 16 #[stV md bi ac he, .slice ao L.length cap] w fun e w' => e = .returned (vgV ge gn gk g1 g2 gh) ∧ w.grownBy w' none) := Hid.mk' (fun ao cap w hB h1 h2 => by
    have := getRef_any md bi ac he ao cap L L.length rfl w hB h1 h2
    rwa [hG] at this)
  have a5 := Hid.mk' (fun w hw => C.fits md bi ac he w t ht hw)
  have a6 := Hid.mk' (fun w => fits_any md bi ac he w t ht)
  have K := Hid.mk' (fun (a b : World) (h : P a) (g : a.grownBy b none) => C.keep h g)
  have hq := Hid.mk' hw
  obtain ⟨i0, hi, hz0, hz1, hz2⟩ := info_parts info5
  have HB : Hid (Bytes w ao L) := hB
  have hLl : L.length ≤ 140737488351232 := by omega
  have hzz : (z == z) = true := by simp
  clear hB hD hD0 hG ht hw C
  cases ok <;>
  · go_enter Try.func4, Try.ntmps4
    go_upto_region 2 with (at_builtin; refine wpList_append_any _ rfl _ _ 30 30 rfl i0 Try.underlying30 hi hz0 hz1 hz2 _ _ [] rfl (own_made2 _ _) _ rfl L (src_of ((HB.out.alloc _).alloc _) 30 cap Try.underlying30) (by simp; omega) L rfl ?_; intro ao' c' wa hown hga hat)
    have hst : Hid (wa.heap[w.heap.size]? = some (.cells #[.int .i64 md, .int .i64 bi, .int .u32 ac, .int .i32 he] 29 (0, 0))) := by
      refine (?_ : wa.heap[w.heap.size]? = _)
      rw [hga.block _ (by simp; omega) (by simp [blk])]
      exact res_alloc (heap_alloc_new w _) _
    have hgw : Hid (w.grownBy wa none) := grownBy_new (ga (ga (grownBy_refl _ _))) hga (by intro g e; simp [blk] at e; omega)
    have h1 : Hid (Bytes wa ao' L) := hown.bytes
    have h2 : Hid (Bytes wa ao L) := HB.out.kept0 hgw.out
    have q1 := hown.cap_le
    have q2 := hown.cap_max
    have hPa := Hid.mk' (K.out _ _ hq.out hgw.out)
    have y0 := cell_at hst.out 0 (v := .int .i64 md) rfl
    have y1 := cell_at hst.out 1 (v := .int .i64 bi) rfl
    have y2 := cell_at hst.out 2 (v := .int .u32 ac) rfl
    have y3 := cell_at hst.out 3 (v := .int .i32 he) rfl
    clear hown hga hat HB
    go_upto_region 3 with (go_at_call 13; refine (a1.out _ hPa.out).mono ?_; rintro e wb ⟨rfl, hgb⟩)
    clear y0 y1 y2 y3
    have hPb := Hid.mk' (K.out _ _ hPa.out hgb)
    have hstb := Hid.mk' (blk_kept hst.out hgb)
    have y0 := cell_at hstb.out 0 (v := .int .i64 md) rfl
    have y1 := cell_at hstb.out 1 (v := .int .i64 bi) rfl
    have y2 := cell_at hstb.out 2 (v := .int .u32 ac) rfl
    have y3 := cell_at hstb.out 3 (v := .int .i32 he) rfl
    go_upto_region 4 with (go_at_call 14; refine (a2.out _).mono ?_; rintro e wc ⟨rfl, hgc⟩)
    clear y0 y1 y2 y3
    have hstc := Hid.mk' (blk_kept hstb.out hgc)
    have hPc := Hid.mk' (K.out _ _ hPb.out hgc)
    have k1 : Hid (Bytes wc ao' L) := Hid.mk' ((h1.out.kept0 hgb).kept0 hgc)
    have k2 : Hid (Bytes wc ao L) := Hid.mk' ((h2.out.kept0 hgb).kept0 hgc)
    have hgw2 : Hid (w.grownBy wc none) := Hid.mk' (grownBy_trans (grownBy_trans hgw.out hgb) hgc)
    have hS0 := held_of c' cap hstc.out k1.out k2.out (gd (grownBy_refl wc none))
    clear hgb hgc hst hstb hPa hPb h1 h2 hgw a1 a2
    go_region_held3 (fun w' => w'.cell? ⟨w.heap.size, 0, none⟩ = some (.int .i64 md) ∧ w'.cell? ⟨w.heap.size, 1, none⟩ = some (.int .i64 bi) ∧ w'.cell? ⟨w.heap.size, 2, none⟩ = some (.int .u32 ac) ∧ w'.cell? ⟨w.heap.size, 3, none⟩ = some (.int .i32 he) ∧ (convert 30 9 (.slice ao' L.length c')).run Try.prog w' = .ok (.string (str L)) w' ∧ (convert 30 9 (.slice ao L.length cap)).run Try.prog w' = .ok (.string (str L)) w') (first | assumption | exact hS0) (first
      | (go_at_call 15; refine (a3.out ao' c' _ ?_ q1 q2 ?_).mono ?_; exact k1.out.kept0 (by (repeat (first | with_reducible exact grownBy_refl _ _ | (with_reducible refine gs ?_ ?_; first | omega | (simp; omega)) | with_reducible refine ga ?_ | with_reducible refine gd ?_ | with_reducible refine gdn ?_ | with_reducible refine gt ?_ (by assumption)))); exact K.out _ _ hPc.out (by (repeat (first | with_reducible exact grownBy_refl _ _ | (with_reducible refine gs ?_ ?_; first | omega | (simp; omega)) | with_reducible refine ga ?_ | with_reducible refine gd ?_ | with_reducible refine gdn ?_ | with_reducible refine gt ?_ (by assumption)))); rintro e w1 ⟨rfl, hg1⟩; have hS1 := held_of c' cap hstc.out k1.out k2.out (show wc.grownBy w1 none by (repeat (first | with_reducible exact grownBy_refl _ _ | (with_reducible refine gs ?_ ?_; first | omega | (simp; omega)) | with_reducible refine ga ?_ | with_reducible refine gd ?_ | with_reducible refine gdn ?_ | with_reducible refine gt ?_ (by assumption)))))
      | (go_at_call 16; refine (a4.out ao cap _ ?_ hLc (by omega)).mono ?_; exact k2.out.kept0 (by (repeat (first | with_reducible exact grownBy_refl _ _ | (with_reducible refine gs ?_ ?_; first | omega | (simp; omega)) | with_reducible refine ga ?_ | with_reducible refine gd ?_ | with_reducible refine gdn ?_ | with_reducible refine gt ?_ (by assumption)))); rintro e w2 ⟨rfl, hg2⟩; have hS2 := held_of c' cap hstc.out k1.out k2.out (show wc.grownBy w2 none by (repeat (first | with_reducible exact grownBy_refl _ _ | (with_reducible refine gs ?_ ?_; first | omega | (simp; omega)) | with_reducible refine ga ?_ | with_reducible refine gd ?_ | with_reducible refine gdn ?_ | with_reducible refine gt ?_ (by assumption)))))
      | (go_at_call 17; refine (a5.out _ ?_).mono ?_; exact K.out _ _ hPc.out (by (repeat (first | with_reducible exact grownBy_refl _ _ | (with_reducible refine gs ?_ ?_; first | omega | (simp; omega)) | with_reducible refine ga ?_ | with_reducible refine gd ?_ | with_reducible refine gdn ?_ | with_reducible refine gt ?_ (by assumption)))); rintro e w3 ⟨rfl, hg3⟩; have hS3 := held_of c' cap hstc.out k1.out k2.out (show wc.grownBy w3 none by (repeat (first | with_reducible exact grownBy_refl _ _ | (with_reducible refine gs ?_ ?_; first | omega | (simp; omega)) | with_reducible refine ga ?_ | with_reducible refine gd ?_ | with_reducible refine gdn ?_ | with_reducible refine gt ?_ (by assumption)))))
      | (go_at_call 18; refine (a6.out _).mono ?_; rintro e w4 ⟨rfl, hg4⟩; have hS4 := held_of c' cap hstc.out k1.out k2.out (show wc.grownBy w4 none by (repeat (first | with_reducible exact grownBy_refl _ _ | (with_reducible refine gs ?_ ?_; first | omega | (simp; omega)) | with_reducible refine ga ?_ | with_reducible refine gd ?_ | with_reducible refine gdn ?_ | with_reducible refine gt ?_ (by assumption))))))
    go_wp2
    go_ret
    refine ⟨rfl, ?_⟩
    have hgw3 := hgw2.out
    (repeat (first | with_reducible exact grownBy_refl _ _ | (with_reducible refine gs ?_ ?_; first | omega | (simp; omega)) | with_reducible refine ga ?_ | with_reducible refine gd ?_ | with_reducible refine gdn ?_ | with_reducible refine gt ?_ (by assumption)))
end Go.Proofs.Ytfehmbicolllkaa.C13
