/- What HzSets wants of the program; HzSets: a walk. -/
import Derived.Test.YtpkhkeamnfoekaaHT20
import Derived.Test.YtpkhkeamnfoekaaRegion
import Derived.Deep.RegionHeld3
import Derived.BigQuiet
import Derived.WalkSpells
import Derived.WalkLawsBesides
namespace Go.Proofs.Ytpkhkeamnfoekaa.C20
open Go.ChangeShapes Go.WideShapes Go.ChangeAt Go.RowKit Go.Proofs.Ytpkhkeamnfoekaa.Mem Go.Proofs.Ytpkhkeamnfoekaa.Cb Go.Proofs.Ytpkhkeamnfoekaa.Sp
set_option linter.unusedVariables false
set_option linter.unusedSimpArgs false

def I64 (k : Int) : Prop := -9223372036854775808 ≤ k ∧ k ≤ 9223372036854775807
def I32 (k : Int) : Prop := -2147483648 ≤ k ∧ k ≤ 2147483647
structure ConS (P : World → Prop) : Prop where
  keep : ∀ {w w' : World}, P w → w.grownBy w' none → P w'
  set : ∀ (md bi ac he : Int) (u : Int) (hu : I32 u) (w : World), P w → Calls Try.prog 6 #[stV md bi ac he, .int .i32 u] w fun e w' => e = .returned (putV (sE (mo md bi ac he) u)) ∧ w.grownBy w' none
  fin : ∀ (md bi ac he : Int) (w : World) (m : Nat) (hm : Hid (mo md bi ac he = m)), P w → Calls Try.prog 4 #[stV md bi ac he] w fun e w' => e = .returned (.tuple #[.string (str (enB m)), .int .i64 (enE m)]) ∧ w.grownBy w' none
theorem ConS.put {P : World → Prop} (C : ConS P) (md bi ac he : Int) (m : Nat) (hm : mo md bi ac he = m) (u : Int) (hu : I32 u) (e : Int) (bs : List UInt8) (d : Int) (hS : sE m u = (e, bs, d)) : Hid (∀ w, P w → Calls Try.prog 6 #[stV md bi ac he, .int .i32 u] w fun x w' => x = .returned (.agg (pM e (str bs) d)) ∧ w.grownBy w' none) := Hid.mk' (fun w hw => by
  have := C.set md bi ac he u hu w hw
  rwa [hm, hS] at this)
theorem held_st {w wa wx : World} {md bi ac he : Int} (hst : wa.heap[w.heap.size]? = some (.cells (sC md bi ac he) 24 (0, 0))) (hg : wa.grownBy wx none) :
    wx.cell? ⟨w.heap.size, 0, none⟩ = some (.int .i64 md) ∧ wx.cell? ⟨w.heap.size, 1, none⟩ = some (.int .i64 bi) ∧ wx.cell? ⟨w.heap.size, 2, none⟩ = some (.int .u32 ac) ∧ wx.cell? ⟨w.heap.size, 3, none⟩ = some (.int .i32 he) := by
  have h := blk_kept hst hg
  exact ⟨cell_at h 0 rfl, cell_at h 1 rfl, cell_at h 2 rfl, cell_at h 3 rfl⟩
set_option maxRecDepth 100000 in
set_option maxHeartbeats 4000000 in
theorem sets_walk {P : World → Prop} (C : ConS P) (md bi ac he u : Int) (hu : I32 u) (w : World) (hw : P w) : Calls Try.prog 3 #[stV md bi ac he, .int .i32 u] w fun e w' => e = .returned (.bool true) ∧ w.grownBy w' none := by
  obtain ⟨⟨e0, bs, d0⟩, hS⟩ : ∃ p, sE (mo md bi ac he) u = p := ⟨_, rfl⟩
  have a1 := C.put md bi ac he _ rfl u hu e0 bs d0 hS
  have a2 : Hid (∀ w, Calls Try.prog 7 #[stV md bi ac he, .int .i32 u] w fun e w' => e = .returned (.agg (pM e0 (str bs) d0)) ∧ w.grownBy w' none) := Hid.mk' (fun w => by
    have := setRef_any md bi ac he u w
    rwa [hS] at this)
  have a3 := Hid.mk' (fun w hw => C.fin md bi ac he w _ (Hid.mk' rfl) hw)
  have a4 := Hid.mk' (fun w => endRef_any md bi ac he w _ (Hid.mk' rfl))
  have K := Hid.mk' (fun (a b : World) (h : P a) (g : a.grownBy b none) => C.keep h g)
  have hq := Hid.mk' hw
  generalize str bs = s at *
  generalize str (enB (mo md bi ac he)) = t at *
  generalize enE (mo md bi ac he) = t2 at *
  clear hS hw C
  go_enter Try.func3, Try.ntmps3
  go_upto_region 3 with (first
    | (refine wpList_boxC _ rfl 24 _ rfl (sC md bi ac he) rfl ?_; intro wb sb hgb; have rs0 := sb.cell 0 rfl; have rs1 := sb.cell 1 rfl; have rs2 := sb.cell 2 rfl; have rs3 := sb.cell 3 rfl)
    | (go_at_call 4; refine (a3.out _ (K.out _ _ hq.out hgb)).mono ?_; rintro e w1 ⟨rfl, hg1⟩; have sb1 := sb.kept0 hg1; clear rs0 rs1 rs2 rs3; have rs0 := sb1.cell 0 rfl; have rs1 := sb1.cell 1 rfl; have rs2 := sb1.cell 2 rfl; have rs3 := sb1.cell 3 rfl)
    | (go_at_call 5; refine (a4.out _).mono ?_; rintro e w2 ⟨rfl, hg2⟩; have sb2 := Hid.mk' (sb1.kept0 hg2)))
  have hgw : Hid (w.grownBy w2 none) := Hid.mk' (gt (gt hgb hg1) hg2)
  have hP2 := Hid.mk' (K.out _ _ hq.out hgw.out)
  have hS0 := held_st sb2.out (gd (grownBy_refl w2 none))
  clear rs0 rs1 rs2 rs3 sb sb1 hg1 hg2 hgb
  go_region_held3 (fun w' => w'.cell? ⟨w.heap.size, 0, none⟩ = some (.int .i64 md) ∧ w'.cell? ⟨w.heap.size, 1, none⟩ = some (.int .i64 bi) ∧ w'.cell? ⟨w.heap.size, 2, none⟩ = some (.int .u32 ac) ∧ w'.cell? ⟨w.heap.size, 3, none⟩ = some (.int .i32 he)) (first | assumption | exact hS0) (first
    | (go_at_call 6; refine (a1.out _ (K.out _ _ hP2.out (by (repeat (first | with_reducible exact grownBy_refl _ _ | (with_reducible refine gs ?_ ?_; first | omega | (simp; omega)) | with_reducible refine ga ?_ | with_reducible refine gd ?_ | with_reducible refine gdn ?_ | with_reducible refine gt ?_ (by assumption)))))).mono ?_; rintro e w3 ⟨rfl, hg3⟩; have hS1 := held_st sb2.out (show w2.grownBy w3 none by (repeat (first | with_reducible exact grownBy_refl _ _ | (with_reducible refine gs ?_ ?_; first | omega | (simp; omega)) | with_reducible refine ga ?_ | with_reducible refine gd ?_ | with_reducible refine gdn ?_ | with_reducible refine gt ?_ (by assumption)))))
    | (go_at_call 7; refine (a2.out _).mono ?_; rintro e w4 ⟨rfl, hg4⟩; have hS2 := held_st sb2.out (show w2.grownBy w4 none by (repeat (first | with_reducible exact grownBy_refl _ _ | (with_reducible refine gs ?_ ?_; first | omega | (simp; omega)) | with_reducible refine ga ?_ | with_reducible refine gd ?_ | with_reducible refine gdn ?_ | with_reducible refine gt ?_ (by assumption))))))
  go_wp2
  go_ret
  refine ⟨rfl, ?_⟩
  have hgw2 := hgw.out
  (repeat (first | with_reducible exact grownBy_refl _ _ | (with_reducible refine gs ?_ ?_; first | omega | (simp; omega)) | with_reducible refine ga ?_ | with_reducible refine gd ?_ | with_reducible refine gdn ?_ | with_reducible refine gt ?_ (by assumption)))
end Go.Proofs.Ytpkhkeamnfoekaa.C20
