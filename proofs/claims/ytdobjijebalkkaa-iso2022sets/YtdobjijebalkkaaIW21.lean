/- What the laws of layer 21 want of the program; Iso2022Gets, Iso2022Sets: walks. -/
import Derived.Test.YtdobjijebalkkaaIU21
import Derived.Test.YtdobjijebalkkaaIX21
import Derived.Test.YtdobjijebalkkaaIE21
import Derived.Test.YtdobjijebalkkaaRegion
import Derived.Deep.RegionHeld3
import Derived.BigQuiet
import Derived.WalkSpells
import Derived.WalkLawsBesides
namespace Go.Proofs.Ytdobjijebalkkaa.C21
open Go.ChangeShapes Go.WideShapes Go.ChangeAt Go.RowKit Go.Proofs.Ytdobjijebalkkaa.Mem Go.Proofs.Ytdobjijebalkkaa.Cb Go.Proofs.Ytdobjijebalkkaa.Sp
set_option linter.unusedVariables false
set_option linter.unusedSimpArgs false

def I64 (k : Int) : Prop := -9223372036854775808 ≤ k ∧ k ≤ 9223372036854775807
def I32 (k : Int) : Prop := -2147483648 ≤ k ∧ k ≤ 2147483647
structure Con (P : World → Prop) : Prop where
  keep : ∀ {w w' : World}, P w → w.grownBy w' none → P w'
  has : ∀ (k : Int) (hk : I64 k) (H : Bool) (hH : Hid (has k = H)) (w : World), P w → Calls Try.prog 10 #[.int .i64 k] w fun e w' => e = .returned (.bool H) ∧ w.grownBy w' none
  get : ∀ (k : Int) (hk : I64 k) (md bi ac he : Int) (ao : Option Addr) (cap : Nat) (L : List UInt8) (n : Nat) (hn : L.length = n) (w : World) (hB : Bytes w ao L) (hc : n ≤ cap) (hcm : cap ≤ 9223372036854775807), P w → Calls Try.prog 8 #[.int .i64 k, stV md bi ac he, .slice ao n cap] w fun e w' => e = .returned (gotV (gE k (mo md bi ac he) L)) ∧ w.grownBy w' none
  set : ∀ (k : Int) (hk : I64 k) (md bi ac he : Int) (u : Int) (hu : I32 u) (w : World), P w → Calls Try.prog 14 #[.int .i64 k, stV md bi ac he, .int .i32 u] w fun e w' => e = .returned (putV (sE k (mo md bi ac he) u)) ∧ w.grownBy w' none
  fin : ∀ (k : Int) (hk : I64 k) (md bi ac he : Int) (w : World) (m : Nat) (hm : Hid (mo md bi ac he = m)), P w → Calls Try.prog 12 #[.int .i64 k, stV md bi ac he] w fun e w' => e = .returned (.tuple #[.string (str (enB k m)), .agg (sC (enM k m : Int) 0 0 0), .int .i64 (enE k m)]) ∧ w.grownBy w' none
theorem info5 : (Try.prog.info? 5).map (fun i => (i.zero, i.size, i.bytes)) = some (some (.int .u8 0), 1, 1) := by kernel_rfl
theorem info_parts {o : Option TypeInfo} {z : Option Value} {a b : Nat} (h : o.map (fun i => (i.zero, i.size, i.bytes)) = some (z, a, b)) : ∃ i, o = some i ∧ i.zero = z ∧ i.size = a ∧ i.bytes = b := by
  cases o with
  | none => simp at h
  | some i => simp at h; exact ⟨i, rfl, h⟩
theorem Con.got {P : World → Prop} (C : Con P) (k : Int) (hk : I64 k) (md bi ac he : Int) (m : Nat) (hm : mo md bi ac he = m) (L : List UInt8) (ge gn gk g1 g2 : Int) (hG : gE k m L = (ge, gn, gk, g1, g2)) : Hid (∀ (n : Nat), L.length = n → ∀ ao cap w, Bytes w ao L → n ≤ cap → cap ≤ 9223372036854775807 → P w → Calls Try.prog 8 #[.int .i64 k, stV md bi ac he, .slice ao n cap] w fun e w' => e = .returned (.agg (gM ge gn gk g1 g2)) ∧ w.grownBy w' none) := Hid.mk' (fun n hn ao cap w hB h1 h2 hw => by
  have := C.get k hk md bi ac he ao cap L n hn w hB h1 h2 hw
  rwa [hm, hG] at this)
theorem Con.put {P : World → Prop} (C : Con P) (k : Int) (hk : I64 k) (md bi ac he : Int) (m : Nat) (hm : mo md bi ac he = m) (u : Int) (hu : I32 u) (e : Int) (bs : List UInt8) (d : Int) (hS : sE k m u = (e, bs, d)) : Hid (∀ w, P w → Calls Try.prog 14 #[.int .i64 k, stV md bi ac he, .int .i32 u] w fun x w' => x = .returned (.agg (pM e (str bs) d)) ∧ w.grownBy w' none) := Hid.mk' (fun w hw => by
  have := C.set k hk md bi ac he u hu w hw
  rwa [hm, hS] at this)
theorem own_made2 (w : World) (o : Obj) : Own ((w.alloc o).alloc (.cells #[] 5)) (some ⟨w.heap.size + 1, 0, none⟩) 0 [] := by
  have := own_made (w.alloc o)
  simpa using this
theorem held_of {w wa wx : World} {md bi ac he : Int} {ao ao' : Option Addr} {L : List UInt8} (c' cap : Nat) (hst : wa.heap[w.heap.size]? = some (.cells (sC md bi ac he) 24 (0, 0))) (h1 : Bytes wa ao' L) (h2 : Bytes wa ao L) (hg : wa.grownBy wx none) :
    wx.cell? ⟨w.heap.size, 0, none⟩ = some (.int .i64 md) ∧ wx.cell? ⟨w.heap.size, 1, none⟩ = some (.int .i64 bi) ∧ wx.cell? ⟨w.heap.size, 2, none⟩ = some (.int .u32 ac) ∧ wx.cell? ⟨w.heap.size, 3, none⟩ = some (.int .i32 he) ∧ (convert 25 9 (.slice ao' L.length c')).run Try.prog wx = .ok (.string (str L)) wx ∧ (convert 25 9 (.slice ao L.length cap)).run Try.prog wx = .ok (.string (str L)) wx := by
  have h := blk_kept hst hg
  exact ⟨cell_at h 0 rfl, cell_at h 1 rfl, cell_at h 2 rfl, cell_at h 3 rfl, conv (h1.kept0 hg) _ _ _ Try.underlying25 Try.underlying5 Try.underlying9, conv (h2.kept0 hg) _ _ _ Try.underlying25 Try.underlying5 Try.underlying9⟩
set_option maxRecDepth 100000 in
set_option maxHeartbeats 4000000 in
theorem gets_walk {P : World → Prop} (C : Con P) (k : Int) (hk : I64 k) (md bi ac he : Int) (ao : Option Addr) (cap : Nat) (L : List UInt8) (w : World) (hw : P w) (hB : Bytes w ao L) (hLc : L.length ≤ cap) (hcm : cap ≤ 140737488351232) :
    Calls Try.prog 3 #[.int .i64 k, stV md bi ac he, .slice ao L.length cap] w fun e w' => e = .returned (.bool true) ∧ w.grownBy w' none := by
  obtain ⟨⟨ge, gn, gk, g1, g2⟩, hG⟩ : ∃ p, gE k (mo md bi ac he) L = p := ⟨_, rfl⟩
  have a3 := C.got k hk md bi ac he _ rfl L ge gn gk g1 g2 hG
  have a4 : Hid (∀ ao cap w, Bytes w ao L → L.length ≤ cap → cap ≤ 9223372036854775807 → Calls Try.prog 9 #[.int .i64 k, stV md bi ac he, .slice ao L.length cap] w fun e w' => e = .returned (.agg (gM ge gn gk g1 g2)) ∧ w.grownBy w' none) := Hid.mk' (fun ao cap w hB h1 h2 => by
    have := getRef_any k md bi ac he ao cap L L.length rfl w hB h1 h2
    rwa [hG] at this)
  obtain ⟨H, hH⟩ : ∃ H, Hid (has k = H) := ⟨_, Hid.mk' rfl⟩
  have a5 := Hid.mk' (fun w hw => C.has k hk H hH w hw)
  have a6 := Hid.mk' (fun w => hasRef k H hH w)
  have K := Hid.mk' (fun (a b : World) (h : P a) (g : a.grownBy b none) => C.keep h g)
  have hq := Hid.mk' hw
  obtain ⟨i0, hi, hz0, hz1, hz2⟩ := info_parts info5
  have HB : Hid (Bytes w ao L) := Hid.mk' hB
  have hLl : L.length ≤ 140737488351232 := by omega
  clear hB hG hw C hH hk
  cases H <;>
  · go_enter Try.func3, Try.ntmps3
    go_upto_region 2 with (at_builtin; refine wpList_append_any _ rfl _ _ 25 25 rfl i0 Try.underlying25 hi hz0 hz1 hz2 _ _ [] rfl (own_made2 _ _) _ rfl L (src_of ((HB.out.alloc _).alloc _) 25 cap Try.underlying25) (by simp; omega) L rfl ?_; intro ao' c' wa hown hga hat)
    have hst : Hid (wa.heap[w.heap.size]? = some (.cells (sC md bi ac he) 24 (0, 0))) := by
      refine Hid.mk' (?_ : wa.heap[w.heap.size]? = _)
      rw [hga.block _ (by simp; omega) (by simp [blk])]
      exact res_alloc (heap_alloc_new w _) _
    have hgw : Hid (w.grownBy wa none) := Hid.mk' (grownBy_new (ga (ga (grownBy_refl _ _))) hga (by intro g e; simp [blk] at e; omega))
    have h1 : Hid (Bytes wa ao' L) := Hid.mk' hown.bytes
    have h2 : Hid (Bytes wa ao L) := Hid.mk' (HB.out.kept0 hgw.out)
    have q1 := hown.cap_le
    have q2 := hown.cap_max
    have hPa := Hid.mk' (K.out _ _ hq.out hgw.out)
    have hS0 := held_of c' cap hst.out h1.out h2.out (gd (grownBy_refl wa none))
    clear hown hga hat HB
    go_region_held3 (fun w' => w'.cell? ⟨w.heap.size, 0, none⟩ = some (.int .i64 md) ∧ w'.cell? ⟨w.heap.size, 1, none⟩ = some (.int .i64 bi) ∧ w'.cell? ⟨w.heap.size, 2, none⟩ = some (.int .u32 ac) ∧ w'.cell? ⟨w.heap.size, 3, none⟩ = some (.int .i32 he) ∧ (convert 25 9 (.slice ao' L.length c')).run Try.prog w' = .ok (.string (str L)) w' ∧ (convert 25 9 (.slice ao L.length cap)).run Try.prog w' = .ok (.string (str L)) w') (first | assumption | exact hS0) (first
      | (go_at_call 8; refine (a3.out _ rfl ao' c' _ ?_ q1 q2 ?_).mono ?_; exact h1.out.kept0 (by (repeat (first | with_reducible exact grownBy_refl _ _ | (with_reducible refine gs ?_ ?_; first | omega | (simp; omega)) | with_reducible refine ga ?_ | with_reducible refine gd ?_ | with_reducible refine gdn ?_ | with_reducible refine gt ?_ (by assumption)))); exact K.out _ _ hPa.out (by (repeat (first | with_reducible exact grownBy_refl _ _ | (with_reducible refine gs ?_ ?_; first | omega | (simp; omega)) | with_reducible refine ga ?_ | with_reducible refine gd ?_ | with_reducible refine gdn ?_ | with_reducible refine gt ?_ (by assumption)))); rintro e w1 ⟨rfl, hg1⟩; have hS1 := held_of c' cap hst.out h1.out h2.out (show wa.grownBy w1 none by (repeat (first | with_reducible exact grownBy_refl _ _ | (with_reducible refine gs ?_ ?_; first | omega | (simp; omega)) | with_reducible refine ga ?_ | with_reducible refine gd ?_ | with_reducible refine gdn ?_ | with_reducible refine gt ?_ (by assumption)))))
      | (go_at_call 9; refine (a4.out ao cap _ ?_ hLc (by omega)).mono ?_; exact h2.out.kept0 (by (repeat (first | with_reducible exact grownBy_refl _ _ | (with_reducible refine gs ?_ ?_; first | omega | (simp; omega)) | with_reducible refine ga ?_ | with_reducible refine gd ?_ | with_reducible refine gdn ?_ | with_reducible refine gt ?_ (by assumption)))); rintro e w2 ⟨rfl, hg2⟩; have hS2 := held_of c' cap hst.out h1.out h2.out (show wa.grownBy w2 none by (repeat (first | with_reducible exact grownBy_refl _ _ | (with_reducible refine gs ?_ ?_; first | omega | (simp; omega)) | with_reducible refine ga ?_ | with_reducible refine gd ?_ | with_reducible refine gdn ?_ | with_reducible refine gt ?_ (by assumption)))))
      | (go_at_call 10; refine (a5.out _ ?_).mono ?_; exact K.out _ _ hPa.out (by (repeat (first | with_reducible exact grownBy_refl _ _ | (with_reducible refine gs ?_ ?_; first | omega | (simp; omega)) | with_reducible refine ga ?_ | with_reducible refine gd ?_ | with_reducible refine gdn ?_ | with_reducible refine gt ?_ (by assumption)))); rintro e w3 ⟨rfl, hg3⟩; have hS3 := held_of c' cap hst.out h1.out h2.out (show wa.grownBy w3 none by (repeat (first | with_reducible exact grownBy_refl _ _ | (with_reducible refine gs ?_ ?_; first | omega | (simp; omega)) | with_reducible refine ga ?_ | with_reducible refine gd ?_ | with_reducible refine gdn ?_ | with_reducible refine gt ?_ (by assumption)))))
      | (go_at_call 11; refine (a6.out _).mono ?_; rintro e w4 ⟨rfl, hg4⟩; have hS4 := held_of c' cap hst.out h1.out h2.out (show wa.grownBy w4 none by (repeat (first | with_reducible exact grownBy_refl _ _ | (with_reducible refine gs ?_ ?_; first | omega | (simp; omega)) | with_reducible refine ga ?_ | with_reducible refine gd ?_ | with_reducible refine gdn ?_ | with_reducible refine gt ?_ (by assumption))))))
    go_wp2
    go_ret
    refine ⟨rfl, ?_⟩
    have hgw3 := hgw.out
    (repeat (first | with_reducible exact grownBy_refl _ _ | (with_reducible refine gs ?_ ?_; first | omega | (simp; omega)) | with_reducible refine ga ?_ | with_reducible refine gd ?_ | with_reducible refine gdn ?_ | with_reducible refine gt ?_ (by assumption)))
set_option maxRecDepth 100000 in
set_option maxHeartbeats 4000000 in
theorem sets_walk {P : World → Prop} (C : Con P) (k : Int) (hk : I64 k) (md bi ac he u : Int) (hu : I32 u) (w : World) (hw : P w) : Calls Try.prog 4 #[.int .i64 k, stV md bi ac he, .int .i32 u] w fun e w' => e = .returned (.bool true) ∧ w.grownBy w' none := by
  obtain ⟨⟨e0, bs, d0⟩, hS⟩ : ∃ p, sE k (mo md bi ac he) u = p := ⟨_, rfl⟩
  have a1 := C.put k hk md bi ac he _ rfl u hu e0 bs d0 hS
  have a2 : Hid (∀ w, Calls Try.prog 15 #[.int .i64 k, stV md bi ac he, .int .i32 u] w fun e w' => e = .returned (.agg (pM e0 (str bs) d0)) ∧ w.grownBy w' none) := Hid.mk' (fun w => by
    have := setRef_any k md bi ac he u w
    rwa [hS] at this)
  have a3 := Hid.mk' (fun w hw => C.fin k hk md bi ac he w _ (Hid.mk' rfl) hw)
  have a4 := Hid.mk' (fun w => endRef_any k md bi ac he w _ (Hid.mk' rfl))
  have K := Hid.mk' (fun (a b : World) (h : P a) (g : a.grownBy b none) => C.keep h g)
  have hq := Hid.mk' hw
  generalize str bs = s at *
  generalize str (enB k (mo md bi ac he)) = t at *
  generalize enE k (mo md bi ac he) = t2 at *
  generalize (enM k (mo md bi ac he) : Int) = d1 at *
  clear hS hw C
  have hdd : (d1 == d1) = true := by simp
  go_enter Try.func4, Try.ntmps4
  go_upto_region 1 with (refine wpList_boxC _ rfl 24 _ rfl (sC md bi ac he) rfl ?_; intro wb sb hgb)
  obtain ⟨SB, hSB⟩ : ∃ SB, Hid (w.heap.size = SB) := ⟨_, Hid.mk' rfl⟩
  rw [hSB.out] at sb
  rw [hSB.out]
  go_upto_region 2 with (first
    | (refine wpList_loadC _ rfl 24 _ rfl _ Try.underlying24 rfl SB (sC md bi ac he) infoS rfl sb ?_)
    | (go_at_call 12; refine (a3.out _ (K.out _ _ hq.out hgb)).mono ?_; rintro e w1 ⟨rfl, hg1⟩)
    | (refine wpList_allocC _ rfl 24 rfl (sC 0 0 0 0) (zeroS _) ?_; intro w2 e2 hg2)
    | (refine wpList_storeC _ rfl 24 _ _ rfl _ (sC 0 0 0 0) (sC d1 0 0 0) infoS rfl (sC_one _ _ _ _) rfl rfl e2 ?_; intro w3 e3 hg3))
  have hb1 := sb.kept0 hg1
  have hne1 : SB ≠ w1.heap.size := by have := hb1.lt; omega
  have sb3 := (hb1.kept0 hg2).kept hg3 (by intro e; exact hne1 (Option.some.inj e))
  have hG3 : Hid (w.grownBy w3 none) := Hid.mk' (grownBy_new (gt (gt hgb hg1) hg2) hg3 (fun k hk => by have h5 := Option.some.inj hk; have h6 := hgb.size; have h7 := hg1.size; omega))
  clear hg1 hg2 hg3 e2 hb1 sb hgb
  generalize w1.heap.size = EA at *
  go_upto_region 3 with (first
    | (refine wpList_loadC _ rfl 24 _ rfl _ Try.underlying24 rfl SB (sC md bi ac he) infoS rfl sb3 ?_)
    | (go_at_call 13; refine (a4.out _).mono ?_; rintro e w4 ⟨rfl, hg4⟩)
    | (refine wpList_allocC _ rfl 24 rfl (sC 0 0 0 0) (zeroS _) ?_; intro w5 e5 hg5)
    | (refine wpList_storeC _ rfl 24 _ _ rfl _ (sC 0 0 0 0) (sC d1 0 0 0) infoS rfl (sC_one _ _ _ _) rfl rfl e5 ?_; intro w6 e6 hg6))
  have hb4 := sb3.kept0 hg4
  have he4 := e3.kept0 hg4
  have hne4 : SB ≠ w4.heap.size := by have := hb4.lt; omega
  have hne5 : EA ≠ w4.heap.size := by have := he4.lt; omega
  have sb6 := Hid.mk' ((hb4.kept0 hg5).kept hg6 (by intro e; exact hne4 (Option.some.inj e)))
  have ea6 := Hid.mk' ((he4.kept0 hg5).kept hg6 (by intro e; exact hne5 (Option.some.inj e)))
  have eb6 := Hid.mk' e6
  have hG6 : Hid (w.grownBy w6 none) := Hid.mk' (grownBy_new (gt (gt hG3.out hg4) hg5) hg6 (fun k hk => by have h5 := Option.some.inj hk; have h6 := hG3.out.size; have h7 := hg4.size; omega))
  clear hg4 hg5 hg6 e5 e6 hb4 he4 sb3 e3 hne1 hne4 hne5
  generalize w4.heap.size = EB at *
  have hcl : Hid (∀ wx, w6.grownBy wx none → (fun w' => w'.cell? ⟨SB, 0, none⟩ = some (.int .i64 md) ∧ w'.cell? ⟨SB, 1, none⟩ = some (.int .i64 bi) ∧ w'.cell? ⟨SB, 2, none⟩ = some (.int .u32 ac) ∧ w'.cell? ⟨SB, 3, none⟩ = some (.int .i32 he) ∧ w'.cell? ⟨EA, 0, none⟩ = some (.int .i64 d1) ∧ w'.cell? ⟨EA, 1, none⟩ = some (.int .i64 0) ∧ w'.cell? ⟨EA, 2, none⟩ = some (.int .u32 0) ∧ w'.cell? ⟨EA, 3, none⟩ = some (.int .i32 0) ∧ w'.cell? ⟨EB, 0, none⟩ = some (.int .i64 d1) ∧ w'.cell? ⟨EB, 1, none⟩ = some (.int .i64 0) ∧ w'.cell? ⟨EB, 2, none⟩ = some (.int .u32 0) ∧ w'.cell? ⟨EB, 3, none⟩ = some (.int .i32 0)) wx) := Hid.mk' (fun wx hg => ⟨(sb6.out.kept0 hg).cell 0 rfl, (sb6.out.kept0 hg).cell 1 rfl, (sb6.out.kept0 hg).cell 2 rfl, (sb6.out.kept0 hg).cell 3 rfl, (ea6.out.kept0 hg).cell 0 rfl, (ea6.out.kept0 hg).cell 1 rfl, (ea6.out.kept0 hg).cell 2 rfl, (ea6.out.kept0 hg).cell 3 rfl, (eb6.out.kept0 hg).cell 0 rfl, (eb6.out.kept0 hg).cell 1 rfl, (eb6.out.kept0 hg).cell 2 rfl, (eb6.out.kept0 hg).cell 3 rfl⟩)
  have hP6 := Hid.mk' (K.out _ _ hq.out hG6.out)
  have hS0 := hcl.out _ (gd (grownBy_refl w6 none))
  go_region_held3 (fun w' => w'.cell? ⟨SB, 0, none⟩ = some (.int .i64 md) ∧ w'.cell? ⟨SB, 1, none⟩ = some (.int .i64 bi) ∧ w'.cell? ⟨SB, 2, none⟩ = some (.int .u32 ac) ∧ w'.cell? ⟨SB, 3, none⟩ = some (.int .i32 he) ∧ w'.cell? ⟨EA, 0, none⟩ = some (.int .i64 d1) ∧ w'.cell? ⟨EA, 1, none⟩ = some (.int .i64 0) ∧ w'.cell? ⟨EA, 2, none⟩ = some (.int .u32 0) ∧ w'.cell? ⟨EA, 3, none⟩ = some (.int .i32 0) ∧ w'.cell? ⟨EB, 0, none⟩ = some (.int .i64 d1) ∧ w'.cell? ⟨EB, 1, none⟩ = some (.int .i64 0) ∧ w'.cell? ⟨EB, 2, none⟩ = some (.int .u32 0) ∧ w'.cell? ⟨EB, 3, none⟩ = some (.int .i32 0)) (first | assumption | exact hS0) (first
    | (go_at_call 14; refine (a1.out _ (K.out _ _ hP6.out (by (repeat (first | with_reducible exact grownBy_refl _ _ | (with_reducible refine gs ?_ ?_; first | omega | (simp; omega)) | with_reducible refine ga ?_ | with_reducible refine gd ?_ | with_reducible refine gdn ?_ | with_reducible refine gt ?_ (by assumption)))))).mono ?_; rintro e w7 ⟨rfl, hg7⟩; have hS1 := hcl.out _ (show w6.grownBy w7 none by (repeat (first | with_reducible exact grownBy_refl _ _ | (with_reducible refine gs ?_ ?_; first | omega | (simp; omega)) | with_reducible refine ga ?_ | with_reducible refine gd ?_ | with_reducible refine gdn ?_ | with_reducible refine gt ?_ (by assumption)))))
    | (go_at_call 15; refine (a2.out _).mono ?_; rintro e w8 ⟨rfl, hg8⟩; have hS2 := hcl.out _ (show w6.grownBy w8 none by (repeat (first | with_reducible exact grownBy_refl _ _ | (with_reducible refine gs ?_ ?_; first | omega | (simp; omega)) | with_reducible refine ga ?_ | with_reducible refine gd ?_ | with_reducible refine gdn ?_ | with_reducible refine gt ?_ (by assumption))))))
  go_wp2
  go_ret
  refine ⟨rfl, ?_⟩
  have hgw2 := hG6.out
  (repeat (first | with_reducible exact grownBy_refl _ _ | (with_reducible refine gs ?_ ?_; first | omega | (simp; omega)) | with_reducible refine ga ?_ | with_reducible refine gd ?_ | with_reducible refine gdn ?_ | with_reducible refine gt ?_ (by assumption)))
end Go.Proofs.Ytdobjijebalkkaa.C21
