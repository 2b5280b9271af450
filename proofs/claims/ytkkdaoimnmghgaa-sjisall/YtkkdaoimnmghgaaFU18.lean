/- The document's Set of layer 18: walks, a way each. -/
import Derived.Test.YtkkdaoimnmghgaaFG18
namespace Go.Proofs.Ytkkdaoimnmghgaa.C18
open Go.ChangeShapes Go.WideShapes Go.ChangeAt Go.RowKit Go.Proofs.Ytkkdaoimnmghgaa.Mem Go.Proofs.Ytkkdaoimnmghgaa.Cb Go.Proofs.Ytkkdaoimnmghgaa.Sp
set_option linter.unusedVariables false
set_option linter.unusedSimpArgs false

set_option maxRecDepth 100000 in
set_option maxHeartbeats 1000000 in
theorem s_half (u : Int) (b : Nat) (hb8 : b < 256) (hb : Hid (C14.hbR u = some b)) (w : World) : Calls Try.prog 12 #[.int .i32 u] w fun e w' => e = .returned (.agg (pZ 0 (str [b8 b]))) ∧ w.grownBy w' none := by
  go_enter Try.func12, Try.ntmps12
  go_upto_region 1 with (refine wpList_allocC _ rfl 32 rfl (pZ 0 ⟨#[]⟩) (zeroP _) ?_; intro w1 rs1 hg1)
  have hG1 : Hid (w.grownBy w1 none) := Hid.mk' hg1
  have hB : Hid (w.heap.size ≤ w.heap.size) := Hid.mk' (Nat.le_refl _)
  obtain ⟨B, hBe⟩ : ∃ B, Hid (w.heap.size = B) := ⟨_, Hid.mk' rfl⟩
  have hB2 : Hid (w.heap.size ≤ B) := Hid.mk' (by rw [← hBe.out]; exact hB.out)
  rw [hBe.out] at rs1
  rw [hBe.out]
  clear hg1 hB hBe
  go_wp2_with (first
    | (go_at_call 26; refine (halfByteSome u b hb _).mono ?_; rintro e w2 ⟨rfl, hg⟩; have rs2 := rs1.kept0 hg; have hG2 : Hid (w.grownBy w2 none) := Hid.mk' (gt hG1.out hg); clear rs1 hg; have hcv := conv_one hb8 w2)
    | (refine wpList_storeC _ rfl 32 _ _ rfl B (pZ 0 ⟨#[]⟩) (pZ 0 (str [b8 b])) infoP rfl (pC_one _ _ _ _ _ _) rfl rfl (rs2.kept0 (World.grownBy_alloc _ _ _)) ?_; intro wz rsz hgz))
  refine bodyPost_ret (v := .agg (pZ 0 (str [b8 b]))) (results_cell_row Try.results12 _ wz B 32 _ (0, 0) _ rfl rsz Try.underlying32 rfl infoP) rfl ⟨rfl, ?_⟩
  exact grownBy_new (gt hG2.out (World.grownBy_alloc _ _ _)) hgz (fun k hk => by have h5 := Option.some.inj hk; have h6 := hB2.out; omega)
set_option maxRecDepth 100000 in
set_option maxHeartbeats 1000000 in
theorem s_none (u : Int) (hb : Hid (C14.hbR u = none)) (A D : Nat) (hP : Hid (C14.plT u = (A, D, false))) (w : World) : Calls Try.prog 12 #[.int .i32 u] w fun e w' => e = .returned (.agg (pZ 11 ⟨#[]⟩)) ∧ w.grownBy w' none := by
  go_enter Try.func12, Try.ntmps12
  go_upto_region 1 with (refine wpList_allocC _ rfl 32 rfl (pZ 0 ⟨#[]⟩) (zeroP _) ?_; intro w1 rs1 hg1)
  have hG1 : Hid (w.grownBy w1 none) := Hid.mk' hg1
  have hB : Hid (w.heap.size ≤ w.heap.size) := Hid.mk' (Nat.le_refl _)
  obtain ⟨B, hBe⟩ : ∃ B, Hid (w.heap.size = B) := ⟨_, Hid.mk' rfl⟩
  have hB2 : Hid (w.heap.size ≤ B) := Hid.mk' (by rw [← hBe.out]; exact hB.out)
  rw [hBe.out] at rs1
  rw [hBe.out]
  clear hg1 hB hBe
  go_wp2_with (first
    | (go_at_call 26; refine (halfByteNone u hb _).mono ?_; rintro e w2 ⟨rfl, hg⟩; have rs2 := rs1.kept0 hg; have hG2 : Hid (w.grownBy w2 none) := Hid.mk' (gt hG1.out hg); clear rs1 hg)
    | (go_at_call 27; refine (C14.refPlace_any u _ A D false hP).mono ?_; rintro e w3 ⟨rfl, hg⟩; have rs3 := rs2.kept0 hg; have hG3 : Hid (w.grownBy w3 none) := Hid.mk' (gt hG2.out hg); clear rs2 hg)
    | (refine wpList_storeC _ rfl 32 _ _ rfl B (pZ 0 ⟨#[]⟩) (pZ 11 ⟨#[]⟩) infoP rfl (pC_one _ _ _ _ _ _) rfl rfl rs3 ?_; intro wz rsz hgz))
  refine bodyPost_ret (v := .agg (pZ 11 ⟨#[]⟩)) (results_cell_row Try.results12 _ wz B 32 _ (0, 0) _ rfl rsz Try.underlying32 rfl infoP) rfl ⟨rfl, ?_⟩
  exact grownBy_new hG3.out hgz (fun k hk => by have h5 := Option.some.inj hk; have h6 := hB2.out; omega)
set_option maxRecDepth 100000 in
set_option maxHeartbeats 1000000 in
theorem s_place (u : Int) (hb : Hid (C14.hbR u = none)) (A D : Nat) (hP : Hid (C14.plT u = (A, D, true))) (x y : Nat) (hx : x < 256) (hy : y < 256) (hK : Hid (pkT (A : Int) (D : Int) = (x, y, true))) (w : World) : Calls Try.prog 12 #[.int .i32 u] w fun e w' => e = .returned (.agg (pZ 0 (str [b8 x, b8 y]))) ∧ w.grownBy w' none := by
  go_enter Try.func12, Try.ntmps12
  go_upto_region 1 with (refine wpList_allocC _ rfl 32 rfl (pZ 0 ⟨#[]⟩) (zeroP _) ?_; intro w1 rs1 hg1)
  have hG1 : Hid (w.grownBy w1 none) := Hid.mk' hg1
  have hB : Hid (w.heap.size ≤ w.heap.size) := Hid.mk' (Nat.le_refl _)
  obtain ⟨B, hBe⟩ : ∃ B, Hid (w.heap.size = B) := ⟨_, Hid.mk' rfl⟩
  have hB2 : Hid (w.heap.size ≤ B) := Hid.mk' (by rw [← hBe.out]; exact hB.out)
  rw [hBe.out] at rs1
  rw [hBe.out]
  clear hg1 hB hBe
  go_wp2_with (first
    | (go_at_call 26; refine (halfByteNone u hb _).mono ?_; rintro e w2 ⟨rfl, hg⟩; have rs2 := rs1.kept0 hg; have hG2 : Hid (w.grownBy w2 none) := Hid.mk' (gt hG1.out hg); clear rs1 hg)
    | (go_at_call 27; refine (C14.refPlace_any u _ A D true hP).mono ?_; rintro e w3 ⟨rfl, hg⟩; have rs3 := rs2.kept0 hg; have hG3 : Hid (w.grownBy w3 none) := Hid.mk' (gt hG2.out hg); clear rs2 hg)
    | (go_at_call 14; refine (packRef (A : Int) (D : Int) x y true hK _).mono ?_; rintro e w4 ⟨rfl, hg⟩; have rs4 := rs3.kept0 hg; have hG4 : Hid (w.grownBy w4 none) := Hid.mk' (gt hG3.out hg); clear rs3 hg; have hcv := conv_two hx hy w4)
    | (refine wpList_storeC _ rfl 32 _ _ rfl B (pZ 0 ⟨#[]⟩) (pZ 0 (str [b8 x, b8 y])) infoP rfl (pC_one _ _ _ _ _ _) rfl rfl (rs4.kept0 (World.grownBy_alloc _ _ _)) ?_; intro wz rsz hgz))
  refine bodyPost_ret (v := .agg (pZ 0 (str [b8 x, b8 y]))) (results_cell_row Try.results12 _ wz B 32 _ (0, 0) _ rfl rsz Try.underlying32 rfl infoP) rfl ⟨rfl, ?_⟩
  exact grownBy_new (gt hG4.out (World.grownBy_alloc _ _ _)) hgz (fun k hk => by have h5 := Option.some.inj hk; have h6 := hB2.out; omega)
theorem setRef_any (u : Int) (w : World) : Calls Try.prog 12 #[.int .i32 u] w fun e w' => e = .returned (putV (sE u)) ∧ w.grownBy w' none := by
  unfold sE
  cases hb : C14.hbR u with
  | some b => exact s_half u b (hb_some hb).1 (Hid.mk' hb) w
  | none =>
    simp only
    cases ep : C14.plT u with
    | mk A q =>
    obtain ⟨D, ok⟩ := q
    cases ok with
    | true =>
      obtain ⟨r1, r2, c1, c2, u0, he⟩ := C14.place_back ep
      have hK : pkT (A : Int) (D : Int) = (ldN A, trN A D, true) := by
        unfold pkT
        rw [if_pos (by unfold In2; omega), Int.toNat_natCast, Int.toNat_natCast]
      exact s_place u (Hid.mk' hb) A D (Hid.mk' ep) _ _ (ld_is r1 r2).2 (tr_is c1 c2).2 (Hid.mk' hK) w
    | false => exact s_none u (Hid.mk' hb) A D (Hid.mk' ep) w
theorem getRef_any (ao : Option Addr) (cap : Nat) (L : List UInt8) (n : Nat) (hn : L.length = n) (w : World) (hB : Bytes w ao L) (hc : n ≤ cap) (hcm : cap ≤ 9223372036854775807) : Calls Try.prog 10 #[.slice ao n cap] w fun e w' => e = .returned (gotV (gE L)) ∧ w.grownBy w' none := by
  subst hn
  unfold gE
  cases L with
  | nil => exact g_more w ao cap
  | cons b r =>
    obtain ⟨g, o, rfl, hy0⟩ := first_cell hB
    have hy := Hid.mk' hy0
    have hb := b.toNat_lt
    simp only
    have hl1 : 0 < (b :: r).length := by simp
    have hl4 : (((b :: r).length : Int) == 0) = false := by simp; omega
    cases hl : lead b.toNat with
    | false =>
      rw [if_pos rfl]
      have hl2 : ¬ (129 ≤ b.toNat ∧ b.toNat ≤ 159 ∨ 224 ≤ b.toNat ∧ b.toNat ≤ 239) := fun h => by rw [lead_iff.2 h] at hl; cases hl
      unfold gE1
      by_cases h1 : b.toNat < 129
      · cases hh : C14.haR b.toNat with
        | none => exact g_hnNA w g o _ hy _ cap hl1 hc hcm hl4 h1 hb (Hid.mk' hh)
        | some m => exact g_hsNA w g o _ hy _ cap hl1 hc hcm hl4 h1 hb m (Hid.mk' hh)
      · by_cases h2 : b.toNat < 224
        · cases hh : C14.haR b.toNat with
          | none => exact g_hnNB w g o _ hy _ cap hl1 hc hcm hl4 (by omega) h2 hb (Hid.mk' hh)
          | some m => exact g_hsNB w g o _ hy _ cap hl1 hc hcm hl4 (by omega) h2 hb m (Hid.mk' hh)
        · have hh : C14.haR b.toNat = none := by
            unfold C14.haR
            rw [if_neg (by omega), if_neg (by omega), if_neg (by omega), if_neg (by omega)]
          rw [hh]
          exact g_hnNC w g o _ hy _ cap hl1 hc hcm hl4 (by omega) hb (Hid.mk' hh)
    | true =>
      rw [if_neg (by simp)]
      have hl2 := lead_iff.1 hl
      cases r with
      | nil =>
        by_cases h1 : b.toNat ≤ 159
        · exact g_oneLA w g o _ hy cap hc hcm (by omega) h1
        · exact g_oneLB w g o _ hy cap hc hcm (by omega) (by omega)
      | cons c r =>
        have hy1 := Hid.mk' (second_cell hB)
        have hcc := c.toNat_lt
        have hl5 : 1 < (b :: c :: r).length := by simp
        have hl6 : (((b :: c :: r).length : Int) == 1) = false := by simp; omega
        simp only
        unfold gE2
        cases ht : trail c.toNat with
        | false =>
          rw [if_pos rfl]
          have ht2 : ¬ (64 ≤ c.toNat ∧ c.toNat ≤ 252 ∧ c.toNat ≠ 127) := fun h => by rw [trail_iff.2 h] at ht; cases ht
          by_cases h1 : b.toNat ≤ 159
          · by_cases h5 : c.toNat < 64
            · exact g_illLAa w g o _ hy _ hy1 _ cap hl1 hc hcm hl4 hl5 hl6 (by omega) h1 h5
            · by_cases h6 : c.toNat = 127
              · exact g_illLAb w g o _ hy _ hy1 _ cap hl1 hc hcm hl4 hl5 hl6 (by omega) h1 h6
              · exact g_illLAc w g o _ hy _ hy1 _ cap hl1 hc hcm hl4 hl5 hl6 (by omega) h1 (by omega)
          · by_cases h5 : c.toNat < 64
            · exact g_illLBa w g o _ hy _ hy1 _ cap hl1 hc hcm hl4 hl5 hl6 (by omega) (by omega) h5
            · by_cases h6 : c.toNat = 127
              · exact g_illLBb w g o _ hy _ hy1 _ cap hl1 hc hcm hl4 hl5 hl6 (by omega) (by omega) h6
              · exact g_illLBc w g o _ hy _ hy1 _ cap hl1 hc hcm hl4 hl5 hl6 (by omega) (by omega) (by omega)
        | true =>
          rw [if_neg (by simp)]
          obtain ⟨t1, t2, t3⟩ := trail_iff.1 ht
          obtain ⟨a1, a2, a3, a4, a5, a6⟩ := of_up hl ht
          have hU : upT b.toNat c.toNat = (upR b.toNat c.toNat, upC c.toNat, true) := by
            unfold upT
            rw [if_pos ⟨hl, ht⟩]
          have hU0 := Hid.mk' hU
          cases hs : C14.scP (upR b.toNat c.toNat : Int) (upC c.toNat : Int) with
          | none =>
            by_cases h1 : b.toNat ≤ 159
            · exact g_pnLA w g o _ hy _ hy1 _ cap hl1 hc hcm hl4 hl5 hl6 (by omega) h1 t1 t2 t3 hb _ _ a4 hU0 (Hid.mk' hs)
            · exact g_pnLB w g o _ hy _ hy1 _ cap hl1 hc hcm hl4 hl5 hl6 (by omega) (by omega) t1 t2 t3 hb _ _ a4 hU0 (Hid.mk' hs)
          | some m =>
            by_cases h1 : b.toNat ≤ 159
            · exact g_psLA w g o _ hy _ hy1 _ cap hl1 hc hcm hl4 hl5 hl6 (by omega) h1 t1 t2 t3 hb _ _ a4 hU0 m (Hid.mk' hs)
            · exact g_psLB w g o _ hy _ hy1 _ cap hl1 hc hcm hl4 hl5 hl6 (by omega) (by omega) t1 t2 t3 hb _ _ a4 hU0 m (Hid.mk' hs)
end Go.Proofs.Ytkkdaoimnmghgaa.C18
