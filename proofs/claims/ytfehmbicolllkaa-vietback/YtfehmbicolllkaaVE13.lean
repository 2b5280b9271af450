/- The program's Get of layer 13: walks, a way each. -/
import Derived.Test.YtfehmbicolllkaaVA13
import Derived.Test.YtfehmbicolllkaaVB13
namespace Go.Proofs.Ytfehmbicolllkaa.C13
open Go.ChangeShapes Go.WideShapes Go.ChangeAt Go.RowKit Go.Maps Go.Proofs.Ytfehmbicolllkaa.Mem Go.Proofs.Ytfehmbicolllkaa.Ar Go.Proofs.Ytfehmbicolllkaa.Cb
set_option linter.unusedVariables false
set_option linter.unusedSimpArgs false

theorem coR_zero (m : Int) : coR 0 m = none := by
  unfold coR
  have : ∀ t ∈ trip, ¬ t.1 = 0 := by decide +kernel
  rw [List.find?_eq_none.2 (fun t ht => by have := this t ht; simp; omega)]
  rfl
set_option maxRecDepth 100000 in
set_option maxHeartbeats 1000000 in
theorem p_bad (md bi ac he : Int) (hf : Hid (fitR md bi ac he = false)) (ao : Option Addr) (len cap : Nat) (w : World) : Calls Try.prog 15 #[stV md bi ac he, .slice ao len cap] w fun e w' => e = .returned (vgV 7 0 0 0 0 0) ∧ w.grownBy w' none := by
  go_enter Try.func15, Try.ntmps15
  go_upto_region 1 with (first
    | (refine wpList_boxC _ rfl 29 _ rfl (sC md bi ac he) rfl ?_; intro w1 st1 hg1)
    | (refine wpList_allocC _ rfl 34 rfl (gC 0 0 0 0 0 0) (zeroG _) ?_; intro w2 rs2 hg2))
  have st2 := st1.kept0 hg2
  have hG2 : Hid (w.grownBy w2 none) := Hid.mk' (gt hg1 hg2)
  have hA : Hid (w.heap.size ≤ w.heap.size) := Hid.mk' (Nat.le_refl _)
  have hB : Hid (w.heap.size ≤ w1.heap.size) := Hid.mk' hg1.size
  clear st1 hg1 hg2
  obtain ⟨A, hAe⟩ : ∃ A, Hid (w.heap.size = A) := ⟨_, Hid.mk' rfl⟩
  obtain ⟨B, hBe⟩ : ∃ B, Hid (w1.heap.size = B) := ⟨_, Hid.mk' rfl⟩
  rw [hAe.out] at st2
  rw [hBe.out] at rs2 hB
  rw [hAe.out, hBe.out]
  clear hAe hBe
  go_wp2_with (first
    | (refine wpList_loadC _ rfl 29 _ rfl _ Try.underlying29 rfl A (sC md bi ac he) infoS rfl (by assumption) ?_)
    | (go_at_call 17; refine (pFits md bi ac he _ false hf).mono ?_; rintro e w3 ⟨rfl, hg3⟩; have st3 := st2.kept0 hg3; have rs3 := rs2.kept0 hg3; have hG3 : Hid (w.grownBy w3 none) := Hid.mk' (gt hG2.out hg3); clear st2 rs2 hg3)
    | (refine wpList_storeC _ rfl 34 _ _ rfl B (gC 0 0 0 0 0 0) (gC 7 0 0 0 0 0) infoG rfl (gC_one _ _ _ _ _ _) rfl rfl rs3 ?_; intro wz rsz hgz))
  refine bodyPost_ret (v := vgV 7 0 0 0 0 0) (results_cell_row Try.results15 _ wz B 34 _ (0, 0) _ rfl rsz Try.underlying34 rfl infoG) rfl ⟨rfl, ?_⟩
  exact grownBy_new hG3.out hgz (fun k hk => by have h5 := Option.some.inj hk; have h6 := hB.out; omega)
set_option maxRecDepth 100000 in
set_option maxHeartbeats 1000000 in
theorem p_more (he : Int) (hf : Hid (fitR 0 0 0 he = true)) (ao : Option Addr) (cap : Nat) (w : World) : Calls Try.prog 15 #[stV 0 0 0 he, .slice ao 0 cap] w fun e w' => e = .returned (vgV 1 0 0 0 0 0) ∧ w.grownBy w' none := by
  go_enter Try.func15, Try.ntmps15
  go_upto_region 1 with (first
    | (refine wpList_boxC _ rfl 29 _ rfl (sC 0 0 0 he) rfl ?_; intro w1 st1 hg1)
    | (refine wpList_allocC _ rfl 34 rfl (gC 0 0 0 0 0 0) (zeroG _) ?_; intro w2 rs2 hg2))
  have st2 := st1.kept0 hg2
  have hG2 : Hid (w.grownBy w2 none) := Hid.mk' (gt hg1 hg2)
  have hA : Hid (w.heap.size ≤ w.heap.size) := Hid.mk' (Nat.le_refl _)
  have hB : Hid (w.heap.size ≤ w1.heap.size) := Hid.mk' hg1.size
  clear st1 hg1 hg2
  obtain ⟨A, hAe⟩ : ∃ A, Hid (w.heap.size = A) := ⟨_, Hid.mk' rfl⟩
  obtain ⟨B, hBe⟩ : ∃ B, Hid (w1.heap.size = B) := ⟨_, Hid.mk' rfl⟩
  rw [hAe.out] at st2
  rw [hBe.out] at rs2 hB
  rw [hAe.out, hBe.out]
  clear hAe hBe
  go_wp2_with (first
    | (refine wpList_loadC _ rfl 29 _ rfl _ Try.underlying29 rfl A (sC 0 0 0 he) infoS rfl (by assumption) ?_)
    | (go_at_call 17; refine (pFits 0 0 0 he _ true hf).mono ?_; rintro e w3 ⟨rfl, hg3⟩; have st3 := st2.kept0 hg3; have rs3 := rs2.kept0 hg3; have hG3 : Hid (w.grownBy w3 none) := Hid.mk' (gt hG2.out hg3); clear st2 rs2 hg3)
    | (refine wpList_storeC _ rfl 34 _ _ rfl B (gC 0 0 0 0 0 0) (gC 1 0 0 0 0 0) infoG rfl (gC_one _ _ _ _ _ _) rfl rfl rs3 ?_; intro wz rsz hgz))
  refine bodyPost_ret (v := vgV 1 0 0 0 0 0) (results_cell_row Try.results15 _ wz B 34 _ (0, 0) _ rfl rsz Try.underlying34 rfl infoG) rfl ⟨rfl, ?_⟩
  exact grownBy_new hG3.out hgz (fun k hk => by have h5 := Option.some.inj hk; have h6 := hB.out; omega)
set_option maxRecDepth 100000 in
set_option maxHeartbeats 1000000 in
theorem p_ill (he : Int) (hf : Hid (fitR 0 0 0 he = true)) (b : Nat) (hb : b < 256) (n : Nat) (hn : Hid (vsR b = n)) (w : World) (g o len cap : Nat) (hlt : g < w.heap.size) (hb0 : w.cell? ⟨g, o, none⟩ = some (.int .u8 (b : Int))) (hl1 : 0 < len) (hl2 : len ≤ cap) (hl3 : cap ≤ 9223372036854775807) (hl4 : ((len : Int) == 0) = false) (h9 : n = 65533) : Calls Try.prog 15 #[stV 0 0 0 he, .slice (some ⟨g, o, none⟩) len cap] w fun e w' => e = .returned (vgV 10 1 0 0 0 he) ∧ w.grownBy w' none := by
  subst h9
  go_enter Try.func15, Try.ntmps15
  go_upto_region 1 with (first
    | (refine wpList_boxC _ rfl 29 _ rfl (sC 0 0 0 he) rfl ?_; intro w1 st1 hg1)
    | (refine wpList_allocC _ rfl 34 rfl (gC 0 0 0 0 0 0) (zeroG _) ?_; intro w2 rs2 hg2))
  have st2 := st1.kept0 hg2
  have hG2 : Hid (w.grownBy w2 none) := Hid.mk' (gt hg1 hg2)
  have hA : Hid (w.heap.size ≤ w.heap.size) := Hid.mk' (Nat.le_refl _)
  have hB : Hid (w.heap.size ≤ w1.heap.size) := Hid.mk' hg1.size
  clear st1 hg1 hg2
  obtain ⟨A, hAe⟩ : ∃ A, Hid (w.heap.size = A) := ⟨_, Hid.mk' rfl⟩
  obtain ⟨B, hBe⟩ : ∃ B, Hid (w1.heap.size = B) := ⟨_, Hid.mk' rfl⟩
  rw [hAe.out] at st2
  rw [hBe.out] at rs2 hB
  rw [hAe.out, hBe.out]
  clear hAe hBe
  go_wp2_with (first
    | (refine wpList_loadC _ rfl 29 _ rfl _ Try.underlying29 rfl A (sC 0 0 0 he) infoS rfl (by assumption) ?_)
    | (go_at_call 17; refine (pFits 0 0 0 he _ true hf).mono ?_; rintro e w3 ⟨rfl, hg3⟩; have st3 := st2.kept0 hg3; have rs3 := rs2.kept0 hg3; have hb3 := byte_kept hb0 hlt (gt hG2.out hg3); have hG3 : Hid (w.grownBy w3 none) := Hid.mk' (gt hG2.out hg3); clear st2 rs2 hg3)
    | (go_at_call 29; refine (of_none b hb _ hn).mono ?_; rintro e w4 ⟨rfl, hg4⟩; have st4 := st3.kept0 hg4; have rs4 := rs3.kept0 hg4; have hG4 : Hid (w.grownBy w4 none) := Hid.mk' (gt hG3.out hg4); clear st3 rs3 hg4)
    | (refine wpList_storeC _ rfl 34 _ _ rfl B (gC 0 0 0 0 0 0) (gC 10 1 0 0 0 he) infoG rfl (gC_one _ _ _ _ _ _) rfl rfl rs4 ?_; intro wz rsz hgz))
  refine bodyPost_ret (v := vgV 10 1 0 0 0 he) (results_cell_row Try.results15 _ wz B 34 _ (0, 0) _ rfl rsz Try.underlying34 rfl infoG) rfl ⟨rfl, ?_⟩
  exact grownBy_new hG4.out hgz (fun k hk => by have h5 := Option.some.inj hk; have h6 := hB.out; omega)
set_option maxRecDepth 100000 in
set_option maxHeartbeats 1000000 in
theorem p_made (he : Int) (hhe : I32 he) (hf : Hid (fitR 0 0 0 he = true)) (b : Nat) (hb : b < 256) (n : Nat) (hn : Hid (vsR b = n)) (w : World) (g o len cap : Nat) (hlt : g < w.heap.size) (hb0 : w.cell? ⟨g, o, none⟩ = some (.int .u8 (b : Int))) (hl1 : 0 < len) (hl2 : len ≤ cap) (hl3 : cap ≤ 9223372036854775807) (hl4 : ((len : Int) == 0) = false) (h9 : Hid (¬ n = 65533)) (hnI : I32 (n : Int)) (u : Nat) (hR : Hid (coR he (n : Int) = some u)) : Calls Try.prog 15 #[stV 0 0 0 he, .slice (some ⟨g, o, none⟩) len cap] w fun e w' => e = .returned (vgV 0 1 1 (u : Int) 0 0) ∧ w.grownBy w' none := by
  go_enter Try.func15, Try.ntmps15
  go_upto_region 1 with (first
    | (refine wpList_boxC _ rfl 29 _ rfl (sC 0 0 0 he) rfl ?_; intro w1 st1 hg1)
    | (refine wpList_allocC _ rfl 34 rfl (gC 0 0 0 0 0 0) (zeroG _) ?_; intro w2 rs2 hg2))
  have st2 := st1.kept0 hg2
  have hG2 : Hid (w.grownBy w2 none) := Hid.mk' (gt hg1 hg2)
  have hA : Hid (w.heap.size ≤ w.heap.size) := Hid.mk' (Nat.le_refl _)
  have hB : Hid (w.heap.size ≤ w1.heap.size) := Hid.mk' hg1.size
  clear st1 hg1 hg2
  obtain ⟨A, hAe⟩ : ∃ A, Hid (w.heap.size = A) := ⟨_, Hid.mk' rfl⟩
  obtain ⟨B, hBe⟩ : ∃ B, Hid (w1.heap.size = B) := ⟨_, Hid.mk' rfl⟩
  rw [hAe.out] at st2
  rw [hBe.out] at rs2 hB
  rw [hAe.out, hBe.out]
  clear hAe hBe
  go_wp2_with (first
    | (refine wpList_loadC _ rfl 29 _ rfl _ Try.underlying29 rfl A (sC 0 0 0 he) infoS rfl (by assumption) ?_)
    | (go_at_call 17; refine (pFits 0 0 0 he _ true hf).mono ?_; rintro e w3 ⟨rfl, hg3⟩; have st3 := st2.kept0 hg3; have rs3 := rs2.kept0 hg3; have hb3 := byte_kept hb0 hlt (gt hG2.out hg3); have hG3 : Hid (w.grownBy w3 none) := Hid.mk' (gt hG2.out hg3); clear st2 rs2 hg3)
    | (go_at_call 29; refine (of_some b hb _ n hn h9).mono ?_; rintro e w4 ⟨rfl, hg4⟩; have st4 := st3.kept0 hg4; have rs4 := rs3.kept0 hg4; have x4 := st4.cell 3 (v := .int .i32 he) rfl; have hG4 : Hid (w.grownBy w4 none) := Hid.mk' (gt hG3.out hg4); clear st3 rs3 hg4)
    | (go_at_call 9; refine (pCompose he (n : Int) hhe hnI _ (some u) hR).mono ?_; rintro e w5 ⟨rfl, hg5⟩; have st5 := st4.kept0 hg5; have rs5 := rs4.kept0 hg5; have x5 := st5.cell 3 (v := .int .i32 he) rfl; have hG5 : Hid (w.grownBy w5 none) := Hid.mk' (gt hG4.out hg5); clear st4 rs4 x4 hg5)
    | (refine wpList_storeC _ rfl 34 _ _ rfl B (gC 0 0 0 0 0 0) (gC 0 1 1 (u : Int) 0 0) infoG rfl (gC_one _ _ _ _ _ _) rfl rfl rs5 ?_; intro wz rsz hgz))
  refine bodyPost_ret (v := vgV 0 1 1 (u : Int) 0 0) (results_cell_row Try.results15 _ wz B 34 _ (0, 0) _ rfl rsz Try.underlying34 rfl infoG) rfl ⟨rfl, ?_⟩
  exact grownBy_new hG5.out hgz (fun k hk => by have h5 := Option.some.inj hk; have h6 := hB.out; omega)
set_option maxRecDepth 100000 in
set_option maxHeartbeats 1000000 in
theorem p_hold (hf : Hid (fitR 0 0 0 0 = true)) (b : Nat) (hb : b < 256) (n : Nat) (hn : Hid (vsR b = n)) (w : World) (g o len cap : Nat) (hlt : g < w.heap.size) (hb0 : w.cell? ⟨g, o, none⟩ = some (.int .u8 (b : Int))) (hl1 : 0 < len) (hl2 : len ≤ cap) (hl3 : cap ≤ 9223372036854775807) (hl4 : ((len : Int) == 0) = false) (h9 : Hid (¬ n = 65533)) (hnI : I32 (n : Int)) (hR : Hid (coR 0 (n : Int) = none)) (hH : Hid (hoR (n : Int) = true)) : Calls Try.prog 15 #[stV 0 0 0 0, .slice (some ⟨g, o, none⟩) len cap] w fun e w' => e = .returned (vgV 0 1 0 0 0 (n : Int)) ∧ w.grownBy w' none := by
  have hhe : I32 0 := by unfold I32; omega
  go_enter Try.func15, Try.ntmps15
  go_upto_region 1 with (first
    | (refine wpList_boxC _ rfl 29 _ rfl (sC 0 0 0 0) rfl ?_; intro w1 st1 hg1)
    | (refine wpList_allocC _ rfl 34 rfl (gC 0 0 0 0 0 0) (zeroG _) ?_; intro w2 rs2 hg2))
  have st2 := st1.kept0 hg2
  have hG2 : Hid (w.grownBy w2 none) := Hid.mk' (gt hg1 hg2)
  have hA : Hid (w.heap.size ≤ w.heap.size) := Hid.mk' (Nat.le_refl _)
  have hB : Hid (w.heap.size ≤ w1.heap.size) := Hid.mk' hg1.size
  clear st1 hg1 hg2
  obtain ⟨A, hAe⟩ : ∃ A, Hid (w.heap.size = A) := ⟨_, Hid.mk' rfl⟩
  obtain ⟨B, hBe⟩ : ∃ B, Hid (w1.heap.size = B) := ⟨_, Hid.mk' rfl⟩
  rw [hAe.out] at st2
  rw [hBe.out] at rs2 hB
  rw [hAe.out, hBe.out]
  clear hAe hBe
  go_upto_region 11 with (first
    | (refine wpList_loadC _ rfl 29 _ rfl _ Try.underlying29 rfl A (sC 0 0 0 0) infoS rfl (by assumption) ?_)
    | (go_at_call 17; refine (pFits 0 0 0 0 _ true hf).mono ?_; rintro e w3 ⟨rfl, hg3⟩; have st3 := st2.kept0 hg3; have rs3 := rs2.kept0 hg3; have hb3 := byte_kept hb0 hlt (gt hG2.out hg3); have hG3 : Hid (w.grownBy w3 none) := Hid.mk' (gt hG2.out hg3); clear st2 rs2 hg3)
    | (go_at_call 29; refine (of_some b hb _ n hn h9).mono ?_; rintro e w4 ⟨rfl, hg4⟩; have st4 := st3.kept0 hg4; have rs4 := rs3.kept0 hg4; have x4 := st4.cell 3 (v := .int .i32 0) rfl; have hG4 : Hid (w.grownBy w4 none) := Hid.mk' (gt hG3.out hg4); clear st3 rs3 hg4)
    | (go_at_call 9; refine (pCompose 0 (n : Int) hhe hnI _ none hR).mono ?_; rintro e w5 ⟨rfl, hg5⟩; have st5 := st4.kept0 hg5; have rs5 := rs4.kept0 hg5; have x5 := st5.cell 3 (v := .int .i32 0) rfl; have hG5 : Hid (w.grownBy w5 none) := Hid.mk' (gt hG4.out hg5); clear st4 rs4 x4 hg5))
  have lA := st5.lt
  have lB := rs5.lt
  go_upto_region 12 with (first
    | (refine wpList_allocC _ rfl 34 rfl (gC 0 0 0 0 0 0) (zeroG _) ?_; intro w6 g6 hg6)
    | (refine wpList_storeC _ rfl 34 _ _ rfl _ (gC 0 0 0 0 0 0) (gC 0 1 0 0 0 0) infoG rfl (gC_one _ _ _ _ _ _) rfl rfl g6 ?_; intro w7 g7 hg7))
  have nA : Hid (¬ w5.heap.size = A) := Hid.mk' (by omega)
  have nB : Hid (¬ w5.heap.size = B) := Hid.mk' (by omega)
  have st7 : CA w7 A 29 (sC 0 0 0 0) := (st5.kept0 hg6).kept hg7 (by have := nA.out; simpa using fun e => this e.symm)
  have rs7 : CA w7 B 34 (gC 0 0 0 0 0 0) := (rs5.kept0 hg6).kept hg7 (by have := nB.out; simpa using fun e => this e.symm)
  have hG7 : Hid (w.grownBy w7 none) := Hid.mk' (grownBy_new (gt hG5.out hg6) hg7 (fun k hk => by have h5 := Option.some.inj hk; have h6 := hG5.out.size; omega))
  have x7 := st7.cell 3 (v := .int .i32 0) rfl
  have hGw : Hid (w.heap.size ≤ w5.heap.size) := Hid.mk' hG5.out.size
  clear st5 rs5 x5 g6 hg6 hg7 lA lB
  generalize w5.heap.size = G at *
  go_upto_region 14 with fail
  obtain ⟨wb, hwb⟩ : ∃ z, z = w7 := ⟨_, rfl⟩
  subst hwb
  go_wp2_with (first
    | (go_at_call 22; refine (may_any (n : Int) _ true hH).mono ?_; rintro e wm ⟨rfl, hgm⟩; have gm := g7.kept0 hgm; have rsm := rs7.kept0 hgm; have hGm : Hid (w.grownBy wm none) := Hid.mk' (gt hG7.out hgm); have y8 := gm.cell 8 (v := .int .i32 0) rfl; have yf := gm.free; have yl := gm.lt; clear g7 rs7 hgm)
    | (refine wpList_loadC _ rfl 34 _ rfl _ Try.underlying34 rfl G (gC 0 1 0 0 0 (n : Int)) infoG rfl (gm.set 8 (.int .i32 (n : Int))) ?_)
    | (refine wpList_storeC _ rfl 34 _ _ rfl B (gC 0 0 0 0 0 0) (gC 0 1 0 0 0 (n : Int)) infoG rfl (gC_one _ _ _ _ _ _) rfl rfl (rsm.other nB.out 8 (.int .i32 (n : Int))) ?_; intro wz rsz hgz))
  refine bodyPost_ret (v := vgV 0 1 0 0 0 (n : Int)) (results_cell_row Try.results15 _ wz B 34 _ (0, 0) _ rfl rsz Try.underlying34 rfl infoG) rfl ⟨rfl, ?_⟩
  exact grownBy_new (b := wm.setCell ⟨G, 8, none⟩ (.int .i32 (n : Int))) (by have hg := hGw.out; have hq := hGm.out; (repeat (first | with_reducible exact grownBy_refl _ _ | (with_reducible refine gs ?_ ?_; first | omega | (simp; omega)) | with_reducible refine ga ?_ | with_reducible refine gd ?_ | with_reducible refine gdn ?_ | with_reducible refine gt ?_ (by assumption)))) hgz (fun k hk => by have h5 := Option.some.inj hk; have h6 := hB.out; omega)
set_option maxRecDepth 100000 in
set_option maxHeartbeats 1000000 in
theorem p_one (hf : Hid (fitR 0 0 0 0 = true)) (b : Nat) (hb : b < 256) (n : Nat) (hn : Hid (vsR b = n)) (w : World) (g o len cap : Nat) (hlt : g < w.heap.size) (hb0 : w.cell? ⟨g, o, none⟩ = some (.int .u8 (b : Int))) (hl1 : 0 < len) (hl2 : len ≤ cap) (hl3 : cap ≤ 9223372036854775807) (hl4 : ((len : Int) == 0) = false) (h9 : Hid (¬ n = 65533)) (hnI : I32 (n : Int)) (hR : Hid (coR 0 (n : Int) = none)) (hH : Hid (hoR (n : Int) = false)) : Calls Try.prog 15 #[stV 0 0 0 0, .slice (some ⟨g, o, none⟩) len cap] w fun e w' => e = .returned (vgV 0 1 1 (n : Int) 0 0) ∧ w.grownBy w' none := by
  have hhe : I32 0 := by unfold I32; omega
  go_enter Try.func15, Try.ntmps15
  go_upto_region 1 with (first
    | (refine wpList_boxC _ rfl 29 _ rfl (sC 0 0 0 0) rfl ?_; intro w1 st1 hg1)
    | (refine wpList_allocC _ rfl 34 rfl (gC 0 0 0 0 0 0) (zeroG _) ?_; intro w2 rs2 hg2))
  have st2 := st1.kept0 hg2
  have hG2 : Hid (w.grownBy w2 none) := Hid.mk' (gt hg1 hg2)
  have hA : Hid (w.heap.size ≤ w.heap.size) := Hid.mk' (Nat.le_refl _)
  have hB : Hid (w.heap.size ≤ w1.heap.size) := Hid.mk' hg1.size
  clear st1 hg1 hg2
  obtain ⟨A, hAe⟩ : ∃ A, Hid (w.heap.size = A) := ⟨_, Hid.mk' rfl⟩
  obtain ⟨B, hBe⟩ : ∃ B, Hid (w1.heap.size = B) := ⟨_, Hid.mk' rfl⟩
  rw [hAe.out] at st2
  rw [hBe.out] at rs2 hB
  rw [hAe.out, hBe.out]
  clear hAe hBe
  go_upto_region 11 with (first
    | (refine wpList_loadC _ rfl 29 _ rfl _ Try.underlying29 rfl A (sC 0 0 0 0) infoS rfl (by assumption) ?_)
    | (go_at_call 17; refine (pFits 0 0 0 0 _ true hf).mono ?_; rintro e w3 ⟨rfl, hg3⟩; have st3 := st2.kept0 hg3; have rs3 := rs2.kept0 hg3; have hb3 := byte_kept hb0 hlt (gt hG2.out hg3); have hG3 : Hid (w.grownBy w3 none) := Hid.mk' (gt hG2.out hg3); clear st2 rs2 hg3)
    | (go_at_call 29; refine (of_some b hb _ n hn h9).mono ?_; rintro e w4 ⟨rfl, hg4⟩; have st4 := st3.kept0 hg4; have rs4 := rs3.kept0 hg4; have x4 := st4.cell 3 (v := .int .i32 0) rfl; have hG4 : Hid (w.grownBy w4 none) := Hid.mk' (gt hG3.out hg4); clear st3 rs3 hg4)
    | (go_at_call 9; refine (pCompose 0 (n : Int) hhe hnI _ none hR).mono ?_; rintro e w5 ⟨rfl, hg5⟩; have st5 := st4.kept0 hg5; have rs5 := rs4.kept0 hg5; have x5 := st5.cell 3 (v := .int .i32 0) rfl; have hG5 : Hid (w.grownBy w5 none) := Hid.mk' (gt hG4.out hg5); clear st4 rs4 x4 hg5))
  have lA := st5.lt
  have lB := rs5.lt
  go_upto_region 12 with (first
    | (refine wpList_allocC _ rfl 34 rfl (gC 0 0 0 0 0 0) (zeroG _) ?_; intro w6 g6 hg6)
    | (refine wpList_storeC _ rfl 34 _ _ rfl _ (gC 0 0 0 0 0 0) (gC 0 1 0 0 0 0) infoG rfl (gC_one _ _ _ _ _ _) rfl rfl g6 ?_; intro w7 g7 hg7))
  have nA : Hid (¬ w5.heap.size = A) := Hid.mk' (by omega)
  have nB : Hid (¬ w5.heap.size = B) := Hid.mk' (by omega)
  have st7 : CA w7 A 29 (sC 0 0 0 0) := (st5.kept0 hg6).kept hg7 (by have := nA.out; simpa using fun e => this e.symm)
  have rs7 : CA w7 B 34 (gC 0 0 0 0 0 0) := (rs5.kept0 hg6).kept hg7 (by have := nB.out; simpa using fun e => this e.symm)
  have hG7 : Hid (w.grownBy w7 none) := Hid.mk' (grownBy_new (gt hG5.out hg6) hg7 (fun k hk => by have h5 := Option.some.inj hk; have h6 := hG5.out.size; omega))
  have x7 := st7.cell 3 (v := .int .i32 0) rfl
  have hGw : Hid (w.heap.size ≤ w5.heap.size) := Hid.mk' hG5.out.size
  clear st5 rs5 x5 g6 hg6 hg7 lA lB
  generalize w5.heap.size = G at *
  go_upto_region 14 with fail
  obtain ⟨wb, hwb⟩ : ∃ z, z = w7 := ⟨_, rfl⟩
  subst hwb
  go_wp2_with (first
    | (go_at_call 22; refine (may_any (n : Int) _ false hH).mono ?_; rintro e wm ⟨rfl, hgm⟩; have gm := g7.kept0 hgm; have rsm := rs7.kept0 hgm; have hGm : Hid (w.grownBy wm none) := Hid.mk' (gt hG7.out hgm); have y8 := gm.cell 8 (v := .int .i32 0) rfl; have yf := gm.free; have yl := gm.lt; clear g7 rs7 hgm)
    | (refine wpList_loadC _ rfl 34 _ rfl _ Try.underlying34 rfl G (gC 0 1 0 0 0 0) infoG rfl gm ?_)
    | (go_at_call 30; refine (with_0 (n : Int) _).mono ?_; rintro e wn ⟨rfl, hgn⟩; have rsn := rsm.kept0 hgn; have hGn : Hid (w.grownBy wn none) := Hid.mk' (gt hGm.out hgn); clear gm rsm y8 yf yl hgn)
    | (refine wpList_storeC _ rfl 34 _ _ rfl B (gC 0 0 0 0 0 0) (gC 0 1 1 (n : Int) 0 0) infoG rfl (gC_one _ _ _ _ _ _) rfl rfl rsn ?_; intro wz rsz hgz))
  refine bodyPost_ret (v := vgV 0 1 1 (n : Int) 0 0) (results_cell_row Try.results15 _ wz B 34 _ (0, 0) _ rfl rsz Try.underlying34 rfl infoG) rfl ⟨rfl, ?_⟩
  exact grownBy_new hGn.out hgz (fun k hk => by have h5 := Option.some.inj hk; have h6 := hB.out; omega)
set_option maxRecDepth 100000 in
set_option maxHeartbeats 1000000 in
theorem p_next (he : Int) (hhe : I32 he) (hf : Hid (fitR 0 0 0 he = true)) (b : Nat) (hb : b < 256) (n : Nat) (hn : Hid (vsR b = n)) (w : World) (g o len cap : Nat) (hlt : g < w.heap.size) (hb0 : w.cell? ⟨g, o, none⟩ = some (.int .u8 (b : Int))) (hl1 : 0 < len) (hl2 : len ≤ cap) (hl3 : cap ≤ 9223372036854775807) (hl4 : ((len : Int) == 0) = false) (h9 : Hid (¬ n = 65533)) (hnI : I32 (n : Int)) (hz : (he == 0) = false) (hz2 : (he != 0) = true) (hR : Hid (coR he (n : Int) = none)) (hH : Hid (hoR (n : Int) = true)) : Calls Try.prog 15 #[stV 0 0 0 he, .slice (some ⟨g, o, none⟩) len cap] w fun e w' => e = .returned (vgV 0 1 1 he 0 (n : Int)) ∧ w.grownBy w' none := by
  go_enter Try.func15, Try.ntmps15
  go_upto_region 1 with (first
    | (refine wpList_boxC _ rfl 29 _ rfl (sC 0 0 0 he) rfl ?_; intro w1 st1 hg1)
    | (refine wpList_allocC _ rfl 34 rfl (gC 0 0 0 0 0 0) (zeroG _) ?_; intro w2 rs2 hg2))
  have st2 := st1.kept0 hg2
  have hG2 : Hid (w.grownBy w2 none) := Hid.mk' (gt hg1 hg2)
  have hA : Hid (w.heap.size ≤ w.heap.size) := Hid.mk' (Nat.le_refl _)
  have hB : Hid (w.heap.size ≤ w1.heap.size) := Hid.mk' hg1.size
  clear st1 hg1 hg2
  obtain ⟨A, hAe⟩ : ∃ A, Hid (w.heap.size = A) := ⟨_, Hid.mk' rfl⟩
  obtain ⟨B, hBe⟩ : ∃ B, Hid (w1.heap.size = B) := ⟨_, Hid.mk' rfl⟩
  rw [hAe.out] at st2
  rw [hBe.out] at rs2 hB
  rw [hAe.out, hBe.out]
  clear hAe hBe
  go_upto_region 11 with (first
    | (refine wpList_loadC _ rfl 29 _ rfl _ Try.underlying29 rfl A (sC 0 0 0 he) infoS rfl (by assumption) ?_)
    | (go_at_call 17; refine (pFits 0 0 0 he _ true hf).mono ?_; rintro e w3 ⟨rfl, hg3⟩; have st3 := st2.kept0 hg3; have rs3 := rs2.kept0 hg3; have hb3 := byte_kept hb0 hlt (gt hG2.out hg3); have hG3 : Hid (w.grownBy w3 none) := Hid.mk' (gt hG2.out hg3); clear st2 rs2 hg3)
    | (go_at_call 29; refine (of_some b hb _ n hn h9).mono ?_; rintro e w4 ⟨rfl, hg4⟩; have st4 := st3.kept0 hg4; have rs4 := rs3.kept0 hg4; have x4 := st4.cell 3 (v := .int .i32 he) rfl; have hG4 : Hid (w.grownBy w4 none) := Hid.mk' (gt hG3.out hg4); clear st3 rs3 hg4)
    | (go_at_call 9; refine (pCompose he (n : Int) hhe hnI _ none hR).mono ?_; rintro e w5 ⟨rfl, hg5⟩; have st5 := st4.kept0 hg5; have rs5 := rs4.kept0 hg5; have x5 := st5.cell 3 (v := .int .i32 he) rfl; have hG5 : Hid (w.grownBy w5 none) := Hid.mk' (gt hG4.out hg5); clear st4 rs4 x4 hg5))
  have lA := st5.lt
  have lB := rs5.lt
  go_upto_region 12 with (first
    | (refine wpList_allocC _ rfl 34 rfl (gC 0 0 0 0 0 0) (zeroG _) ?_; intro w6 g6 hg6)
    | (refine wpList_storeC _ rfl 34 _ _ rfl _ (gC 0 0 0 0 0 0) (gC 0 1 0 0 0 0) infoG rfl (gC_one _ _ _ _ _ _) rfl rfl g6 ?_; intro w7 g7 hg7))
  have nA : Hid (¬ w5.heap.size = A) := Hid.mk' (by omega)
  have nB : Hid (¬ w5.heap.size = B) := Hid.mk' (by omega)
  have st7 : CA w7 A 29 (sC 0 0 0 he) := (st5.kept0 hg6).kept hg7 (by have := nA.out; simpa using fun e => this e.symm)
  have rs7 : CA w7 B 34 (gC 0 0 0 0 0 0) := (rs5.kept0 hg6).kept hg7 (by have := nB.out; simpa using fun e => this e.symm)
  have hG7 : Hid (w.grownBy w7 none) := Hid.mk' (grownBy_new (gt hG5.out hg6) hg7 (fun k hk => by have h5 := Option.some.inj hk; have h6 := hG5.out.size; omega))
  have x7 := st7.cell 3 (v := .int .i32 he) rfl
  have hGw : Hid (w.heap.size ≤ w5.heap.size) := Hid.mk' hG5.out.size
  clear st5 rs5 x5 g6 hg6 hg7 lA lB
  generalize w5.heap.size = G at *
  go_upto_region 14 with (first
    | (refine wpList_loadC _ rfl 34 _ rfl _ Try.underlying34 rfl G (gC 0 1 0 0 0 0) infoG rfl g7 ?_)
    | (go_at_call 30; refine (with_0 he _).mono ?_; rintro e w8 ⟨rfl, hg8⟩; have g8 := g7.kept0 hg8; have rs8 := rs7.kept0 hg8; have hG8 : Hid (w.grownBy w8 none) := Hid.mk' (gt hG7.out hg8); clear g7 rs7 st7 x7 hg8)
    | (refine wpList_storeC _ rfl 34 _ _ rfl G (gC 0 1 0 0 0 0) (gC 0 1 1 he 0 0) infoG rfl (gC_one _ _ _ _ _ _) rfl rfl g8 ?_; intro w9 g9 hg9))
  have rs9 : CA w9 B 34 (gC 0 0 0 0 0 0) := rs8.kept hg9 (by have := nB.out; simpa using fun e => this e.symm)
  have hG9 : Hid (w.grownBy w9 none) := Hid.mk' (grownBy_new hG8.out hg9 (fun k hk => by have h5 := Option.some.inj hk; have h6 := hGw.out; omega))
  clear g8 rs8 hg9
  go_wp2_with (first
    | (go_at_call 22; refine (may_any (n : Int) _ true hH).mono ?_; rintro e wm ⟨rfl, hgm⟩; have gm := g9.kept0 hgm; have rsm := rs9.kept0 hgm; have hGm : Hid (w.grownBy wm none) := Hid.mk' (gt hG9.out hgm); have y8 := gm.cell 8 (v := .int .i32 0) rfl; have yf := gm.free; have yl := gm.lt; clear g9 rs9 hgm)
    | (refine wpList_loadC _ rfl 34 _ rfl _ Try.underlying34 rfl G (gC 0 1 1 he 0 (n : Int)) infoG rfl (gm.set 8 (.int .i32 (n : Int))) ?_)
    | (refine wpList_storeC _ rfl 34 _ _ rfl B (gC 0 0 0 0 0 0) (gC 0 1 1 he 0 (n : Int)) infoG rfl (gC_one _ _ _ _ _ _) rfl rfl (rsm.other nB.out 8 (.int .i32 (n : Int))) ?_; intro wz rsz hgz))
  refine bodyPost_ret (v := vgV 0 1 1 he 0 (n : Int)) (results_cell_row Try.results15 _ wz B 34 _ (0, 0) _ rfl rsz Try.underlying34 rfl infoG) rfl ⟨rfl, ?_⟩
  exact grownBy_new (b := wm.setCell ⟨G, 8, none⟩ (.int .i32 (n : Int))) (by have hg := hGw.out; have hq := hGm.out; (repeat (first | with_reducible exact grownBy_refl _ _ | (with_reducible refine gs ?_ ?_; first | omega | (simp; omega)) | with_reducible refine ga ?_ | with_reducible refine gd ?_ | with_reducible refine gdn ?_ | with_reducible refine gt ?_ (by assumption)))) hgz (fun k hk => by have h5 := Option.some.inj hk; have h6 := hB.out; omega)
set_option maxRecDepth 100000 in
set_option maxHeartbeats 1000000 in
theorem p_two (he : Int) (hhe : I32 he) (hf : Hid (fitR 0 0 0 he = true)) (b : Nat) (hb : b < 256) (n : Nat) (hn : Hid (vsR b = n)) (w : World) (g o len cap : Nat) (hlt : g < w.heap.size) (hb0 : w.cell? ⟨g, o, none⟩ = some (.int .u8 (b : Int))) (hl1 : 0 < len) (hl2 : len ≤ cap) (hl3 : cap ≤ 9223372036854775807) (hl4 : ((len : Int) == 0) = false) (h9 : Hid (¬ n = 65533)) (hnI : I32 (n : Int)) (hz : (he == 0) = false) (hz2 : (he != 0) = true) (hR : Hid (coR he (n : Int) = none)) (hH : Hid (hoR (n : Int) = false)) : Calls Try.prog 15 #[stV 0 0 0 he, .slice (some ⟨g, o, none⟩) len cap] w fun e w' => e = .returned (vgV 0 1 2 he (n : Int) 0) ∧ w.grownBy w' none := by
  go_enter Try.func15, Try.ntmps15
  go_upto_region 1 with (first
    | (refine wpList_boxC _ rfl 29 _ rfl (sC 0 0 0 he) rfl ?_; intro w1 st1 hg1)
    | (refine wpList_allocC _ rfl 34 rfl (gC 0 0 0 0 0 0) (zeroG _) ?_; intro w2 rs2 hg2))
  have st2 := st1.kept0 hg2
  have hG2 : Hid (w.grownBy w2 none) := Hid.mk' (gt hg1 hg2)
  have hA : Hid (w.heap.size ≤ w.heap.size) := Hid.mk' (Nat.le_refl _)
  have hB : Hid (w.heap.size ≤ w1.heap.size) := Hid.mk' hg1.size
  clear st1 hg1 hg2
  obtain ⟨A, hAe⟩ : ∃ A, Hid (w.heap.size = A) := ⟨_, Hid.mk' rfl⟩
  obtain ⟨B, hBe⟩ : ∃ B, Hid (w1.heap.size = B) := ⟨_, Hid.mk' rfl⟩
  rw [hAe.out] at st2
  rw [hBe.out] at rs2 hB
  rw [hAe.out, hBe.out]
  clear hAe hBe
  go_upto_region 11 with (first
    | (refine wpList_loadC _ rfl 29 _ rfl _ Try.underlying29 rfl A (sC 0 0 0 he) infoS rfl (by assumption) ?_)
    | (go_at_call 17; refine (pFits 0 0 0 he _ true hf).mono ?_; rintro e w3 ⟨rfl, hg3⟩; have st3 := st2.kept0 hg3; have rs3 := rs2.kept0 hg3; have hb3 := byte_kept hb0 hlt (gt hG2.out hg3); have hG3 : Hid (w.grownBy w3 none) := Hid.mk' (gt hG2.out hg3); clear st2 rs2 hg3)
    | (go_at_call 29; refine (of_some b hb _ n hn h9).mono ?_; rintro e w4 ⟨rfl, hg4⟩; have st4 := st3.kept0 hg4; have rs4 := rs3.kept0 hg4; have x4 := st4.cell 3 (v := .int .i32 he) rfl; have hG4 : Hid (w.grownBy w4 none) := Hid.mk' (gt hG3.out hg4); clear st3 rs3 hg4)
    | (go_at_call 9; refine (pCompose he (n : Int) hhe hnI _ none hR).mono ?_; rintro e w5 ⟨rfl, hg5⟩; have st5 := st4.kept0 hg5; have rs5 := rs4.kept0 hg5; have x5 := st5.cell 3 (v := .int .i32 he) rfl; have hG5 : Hid (w.grownBy w5 none) := Hid.mk' (gt hG4.out hg5); clear st4 rs4 x4 hg5))
  have lA := st5.lt
  have lB := rs5.lt
  go_upto_region 12 with (first
    | (refine wpList_allocC _ rfl 34 rfl (gC 0 0 0 0 0 0) (zeroG _) ?_; intro w6 g6 hg6)
    | (refine wpList_storeC _ rfl 34 _ _ rfl _ (gC 0 0 0 0 0 0) (gC 0 1 0 0 0 0) infoG rfl (gC_one _ _ _ _ _ _) rfl rfl g6 ?_; intro w7 g7 hg7))
  have nA : Hid (¬ w5.heap.size = A) := Hid.mk' (by omega)
  have nB : Hid (¬ w5.heap.size = B) := Hid.mk' (by omega)
  have st7 : CA w7 A 29 (sC 0 0 0 he) := (st5.kept0 hg6).kept hg7 (by have := nA.out; simpa using fun e => this e.symm)
  have rs7 : CA w7 B 34 (gC 0 0 0 0 0 0) := (rs5.kept0 hg6).kept hg7 (by have := nB.out; simpa using fun e => this e.symm)
  have hG7 : Hid (w.grownBy w7 none) := Hid.mk' (grownBy_new (gt hG5.out hg6) hg7 (fun k hk => by have h5 := Option.some.inj hk; have h6 := hG5.out.size; omega))
  have x7 := st7.cell 3 (v := .int .i32 he) rfl
  have hGw : Hid (w.heap.size ≤ w5.heap.size) := Hid.mk' hG5.out.size
  clear st5 rs5 x5 g6 hg6 hg7 lA lB
  generalize w5.heap.size = G at *
  go_upto_region 14 with (first
    | (refine wpList_loadC _ rfl 34 _ rfl _ Try.underlying34 rfl G (gC 0 1 0 0 0 0) infoG rfl g7 ?_)
    | (go_at_call 30; refine (with_0 he _).mono ?_; rintro e w8 ⟨rfl, hg8⟩; have g8 := g7.kept0 hg8; have rs8 := rs7.kept0 hg8; have hG8 : Hid (w.grownBy w8 none) := Hid.mk' (gt hG7.out hg8); clear g7 rs7 st7 x7 hg8)
    | (refine wpList_storeC _ rfl 34 _ _ rfl G (gC 0 1 0 0 0 0) (gC 0 1 1 he 0 0) infoG rfl (gC_one _ _ _ _ _ _) rfl rfl g8 ?_; intro w9 g9 hg9))
  have rs9 : CA w9 B 34 (gC 0 0 0 0 0 0) := rs8.kept hg9 (by have := nB.out; simpa using fun e => this e.symm)
  have hG9 : Hid (w.grownBy w9 none) := Hid.mk' (grownBy_new hG8.out hg9 (fun k hk => by have h5 := Option.some.inj hk; have h6 := hGw.out; omega))
  clear g8 rs8 hg9
  go_wp2_with (first
    | (go_at_call 22; refine (may_any (n : Int) _ false hH).mono ?_; rintro e wm ⟨rfl, hgm⟩; have gm := g9.kept0 hgm; have rsm := rs9.kept0 hgm; have hGm : Hid (w.grownBy wm none) := Hid.mk' (gt hG9.out hgm); have y8 := gm.cell 8 (v := .int .i32 0) rfl; have yf := gm.free; have yl := gm.lt; clear g9 rs9 hgm)
    | (refine wpList_loadC _ rfl 34 _ rfl _ Try.underlying34 rfl G (gC 0 1 1 he 0 0) infoG rfl gm ?_)
    | (go_at_call 30; refine (with_1 he (n : Int) _).mono ?_; rintro e wn ⟨rfl, hgn⟩; have rsn := rsm.kept0 hgn; have hGn : Hid (w.grownBy wn none) := Hid.mk' (gt hGm.out hgn); clear gm rsm y8 yf yl hgn)
    | (refine wpList_storeC _ rfl 34 _ _ rfl B (gC 0 0 0 0 0 0) (gC 0 1 2 he (n : Int) 0) infoG rfl (gC_one _ _ _ _ _ _) rfl rfl rsn ?_; intro wz rsz hgz))
  refine bodyPost_ret (v := vgV 0 1 2 he (n : Int) 0) (results_cell_row Try.results15 _ wz B 34 _ (0, 0) _ rfl rsz Try.underlying34 rfl infoG) rfl ⟨rfl, ?_⟩
  exact grownBy_new hGn.out hgz (fun k hk => by have h5 := Option.some.inj hk; have h6 := hB.out; omega)
end Go.Proofs.Ytfehmbicolllkaa.C13
