/- The document's Get and Set of layer 19: walks, a way each; whole. -/
import Derived.Test.YtdphkpjamclhjaaJU19
import Derived.Deep.RegionHeld3
import Derived.BigQuiet
namespace Go.Proofs.Ytdphkpjamclhjaa.C19
open Go.ChangeShapes Go.WideShapes Go.ChangeAt Go.RowKit Go.Proofs.Ytdphkpjamclhjaa.Mem Go.Proofs.Ytdphkpjamclhjaa.Cb Go.Proofs.Ytdphkpjamclhjaa.Sp
set_option linter.unusedVariables false
set_option linter.unusedSimpArgs false

set_option maxRecDepth 100000 in
set_option maxHeartbeats 1000000 in
theorem g_more (w : World) (ao : Option Addr) (cap : Nat) : Calls Try.prog 10 #[.slice ao 0 cap] w fun e w' => e = .returned (.agg (gZ 1 0 0 0)) ∧ w.grownBy w' none := by
  go_enter Try.func10, Try.ntmps10
  go_upto_region 1 with (refine wpList_allocC _ rfl 28 rfl (gZ 0 0 0 0) (zeroG _) ?_; intro w1 rs1 hg1)
  have hG1 : Hid (w.grownBy w1 none) := Hid.mk' hg1
  have hB : Hid (w.heap.size ≤ w.heap.size) := Hid.mk' (Nat.le_refl _)
  obtain ⟨B, hBe⟩ : ∃ B, Hid (w.heap.size = B) := ⟨_, Hid.mk' rfl⟩
  have hB2 : Hid (w.heap.size ≤ B) := Hid.mk' (by rw [← hBe.out]; exact hB.out)
  rw [hBe.out] at rs1
  rw [hBe.out]
  clear hg1 hB hBe
  go_wp2_with (first
    | (refine wpList_storeC _ rfl 28 _ _ rfl B (gZ 0 0 0 0) (gZ 1 0 0 0) infoG rfl (gC_one _ _ _ _ _ _ _ _ _) rfl rfl rs1 ?_; intro wz rsz hgz))
  refine bodyPost_ret (v := .agg (gZ 1 0 0 0)) (results_cell_row Try.results10 _ wz B 28 _ (0, 0) _ rfl rsz Try.underlying28 rfl infoG) rfl ⟨rfl, ?_⟩
  exact grownBy_new hG1.out hgz (fun k hk => by have h5 := Option.some.inj hk; have h6 := hB2.out; omega)
set_option maxRecDepth 100000 in
set_option maxHeartbeats 1000000 in
theorem g_92 (w : World) (g o : Nat) (b : Nat) (hy0 : Hid (∀ wx, w.grownBy wx none → wx.cell? ⟨g, o, none⟩ = some (.int .u8 (b : Int)))) (len cap : Nat) (hl1 : 0 < len) (hl2 : len ≤ cap) (hl3 : cap ≤ 9223372036854775807) (hl4 : ((len : Int) == 0) = false) (h1 : b = 92) : Calls Try.prog 10 #[.slice (some ⟨g, o, none⟩) len cap] w fun e w' => e = .returned (.agg (gZ 0 1 1 8361)) ∧ w.grownBy w' none := by
  have n92 : ((b : Int) == 92) = true := by simp; omega
  go_enter Try.func10, Try.ntmps10
  go_upto_region 1 with (refine wpList_allocC _ rfl 28 rfl (gZ 0 0 0 0) (zeroG _) ?_; intro w1 rs1 hg1)
  have hG1 : Hid (w.grownBy w1 none) := Hid.mk' hg1
  have hB : Hid (w.heap.size ≤ w.heap.size) := Hid.mk' (Nat.le_refl _)
  obtain ⟨B, hBe⟩ : ∃ B, Hid (w.heap.size = B) := ⟨_, Hid.mk' rfl⟩
  have hB2 : Hid (w.heap.size ≤ B) := Hid.mk' (by rw [← hBe.out]; exact hB.out)
  rw [hBe.out] at rs1
  rw [hBe.out]
  clear hg1 hB hBe
  have y0 := hy0.out _ hG1.out
  go_wp2_with (first
    | (refine wpList_storeC _ rfl 28 _ _ rfl B (gZ 0 0 0 0) (gZ 0 1 1 8361) infoG rfl (gC_one _ _ _ _ _ _ _ _ _) rfl rfl rs1 ?_; intro wz rsz hgz))
  refine bodyPost_ret (v := .agg (gZ 0 1 1 8361)) (results_cell_row Try.results10 _ wz B 28 _ (0, 0) _ rfl rsz Try.underlying28 rfl infoG) rfl ⟨rfl, ?_⟩
  exact grownBy_new hG1.out hgz (fun k hk => by have h5 := Option.some.inj hk; have h6 := hB2.out; omega)
set_option maxRecDepth 100000 in
set_option maxHeartbeats 1000000 in
theorem g_low (w : World) (g o : Nat) (b : Nat) (hy0 : Hid (∀ wx, w.grownBy wx none → wx.cell? ⟨g, o, none⟩ = some (.int .u8 (b : Int)))) (len cap : Nat) (hl1 : 0 < len) (hl2 : len ≤ cap) (hl3 : cap ≤ 9223372036854775807) (hl4 : ((len : Int) == 0) = false) (h1 : ¬ b = 92) (h2 : b < 128) : Calls Try.prog 10 #[.slice (some ⟨g, o, none⟩) len cap] w fun e w' => e = .returned (.agg (gZ 0 1 1 (b : Int))) ∧ w.grownBy w' none := by
  have n92 : ((b : Int) == 92) = false := by simp; omega
  have d128 : (b : Int) < 128 := by omega
  go_enter Try.func10, Try.ntmps10
  go_upto_region 1 with (refine wpList_allocC _ rfl 28 rfl (gZ 0 0 0 0) (zeroG _) ?_; intro w1 rs1 hg1)
  have hG1 : Hid (w.grownBy w1 none) := Hid.mk' hg1
  have hB : Hid (w.heap.size ≤ w.heap.size) := Hid.mk' (Nat.le_refl _)
  obtain ⟨B, hBe⟩ : ∃ B, Hid (w.heap.size = B) := ⟨_, Hid.mk' rfl⟩
  have hB2 : Hid (w.heap.size ≤ B) := Hid.mk' (by rw [← hBe.out]; exact hB.out)
  rw [hBe.out] at rs1
  rw [hBe.out]
  clear hg1 hB hBe
  have y0 := hy0.out _ hG1.out
  go_wp2_with (first
    | (refine wpList_storeC _ rfl 28 _ _ rfl B (gZ 0 0 0 0) (gZ 0 1 1 (b : Int)) infoG rfl (gC_one _ _ _ _ _ _ _ _ _) rfl rfl rs1 ?_; intro wz rsz hgz))
  refine bodyPost_ret (v := .agg (gZ 0 1 1 (b : Int))) (results_cell_row Try.results10 _ wz B 28 _ (0, 0) _ rfl rsz Try.underlying28 rfl infoG) rfl ⟨rfl, ?_⟩
  exact grownBy_new hG1.out hgz (fun k hk => by have h5 := Option.some.inj hk; have h6 := hB2.out; omega)
set_option maxRecDepth 100000 in
set_option maxHeartbeats 1000000 in
theorem g_bad (w : World) (g o : Nat) (b : Nat) (hy0 : Hid (∀ wx, w.grownBy wx none → wx.cell? ⟨g, o, none⟩ = some (.int .u8 (b : Int)))) (len cap : Nat) (hl1 : 0 < len) (hl2 : len ≤ cap) (hl3 : cap ≤ 9223372036854775807) (hl4 : ((len : Int) == 0) = false) (hb : b < 256) (h2 : 128 ≤ b) (hg : Hid (bgR b = false)) : Calls Try.prog 10 #[.slice (some ⟨g, o, none⟩) len cap] w fun e w' => e = .returned (.agg (gZ 10 1 0 0)) ∧ w.grownBy w' none := by
  have n92 : ((b : Int) == 92) = false := by simp; omega
  have d128 : ¬ (b : Int) < 128 := by omega
  go_enter Try.func10, Try.ntmps10
  go_upto_region 1 with (refine wpList_allocC _ rfl 28 rfl (gZ 0 0 0 0) (zeroG _) ?_; intro w1 rs1 hg1)
  have hG1 : Hid (w.grownBy w1 none) := Hid.mk' hg1
  have hB : Hid (w.heap.size ≤ w.heap.size) := Hid.mk' (Nat.le_refl _)
  obtain ⟨B, hBe⟩ : ∃ B, Hid (w.heap.size = B) := ⟨_, Hid.mk' rfl⟩
  have hB2 : Hid (w.heap.size ≤ B) := Hid.mk' (by rw [← hBe.out]; exact hB.out)
  rw [hBe.out] at rs1
  rw [hBe.out]
  clear hg1 hB hBe
  have y0 := hy0.out _ hG1.out
  go_wp2_with (first
    | (go_at_call 20; refine (begins_any b hb false hg _).mono ?_; rintro e w2 ⟨rfl, hg⟩; have rs2 := rs1.kept0 hg; have hG2 : Hid (w.grownBy w2 none) := Hid.mk' (gt hG1.out hg); clear y0; have y0 := hy0.out _ hG2.out; clear rs1 hg)
    | (refine wpList_storeC _ rfl 28 _ _ rfl B (gZ 0 0 0 0) (gZ 10 1 0 0) infoG rfl (gC_one _ _ _ _ _ _ _ _ _) rfl rfl rs2 ?_; intro wz rsz hgz))
  refine bodyPost_ret (v := .agg (gZ 10 1 0 0)) (results_cell_row Try.results10 _ wz B 28 _ (0, 0) _ rfl rsz Try.underlying28 rfl infoG) rfl ⟨rfl, ?_⟩
  exact grownBy_new hG2.out hgz (fun k hk => by have h5 := Option.some.inj hk; have h6 := hB2.out; omega)
set_option maxRecDepth 100000 in
set_option maxHeartbeats 1000000 in
theorem g_one (w : World) (g o : Nat) (b : Nat) (hy0 : Hid (∀ wx, w.grownBy wx none → wx.cell? ⟨g, o, none⟩ = some (.int .u8 (b : Int)))) (cap : Nat) (hl2 : 1 ≤ cap) (hl3 : cap ≤ 9223372036854775807) (hb : b < 256) (h2 : 128 ≤ b) (hg : Hid (bgR b = true)) : Calls Try.prog 10 #[.slice (some ⟨g, o, none⟩) 1 cap] w fun e w' => e = .returned (.agg (gZ 1 0 0 0)) ∧ w.grownBy w' none := by
  have n92 : ((b : Int) == 92) = false := by simp; omega
  have d128 : ¬ (b : Int) < 128 := by omega
  go_enter Try.func10, Try.ntmps10
  go_upto_region 1 with (refine wpList_allocC _ rfl 28 rfl (gZ 0 0 0 0) (zeroG _) ?_; intro w1 rs1 hg1)
  have hG1 : Hid (w.grownBy w1 none) := Hid.mk' hg1
  have hB : Hid (w.heap.size ≤ w.heap.size) := Hid.mk' (Nat.le_refl _)
  obtain ⟨B, hBe⟩ : ∃ B, Hid (w.heap.size = B) := ⟨_, Hid.mk' rfl⟩
  have hB2 : Hid (w.heap.size ≤ B) := Hid.mk' (by rw [← hBe.out]; exact hB.out)
  rw [hBe.out] at rs1
  rw [hBe.out]
  clear hg1 hB hBe
  have y0 := hy0.out _ hG1.out
  go_wp2_with (first
    | (go_at_call 20; refine (begins_any b hb true hg _).mono ?_; rintro e w2 ⟨rfl, hg⟩; have rs2 := rs1.kept0 hg; have hG2 : Hid (w.grownBy w2 none) := Hid.mk' (gt hG1.out hg); clear y0; have y0 := hy0.out _ hG2.out; clear rs1 hg)
    | (refine wpList_storeC _ rfl 28 _ _ rfl B (gZ 0 0 0 0) (gZ 1 0 0 0) infoG rfl (gC_one _ _ _ _ _ _ _ _ _) rfl rfl rs2 ?_; intro wz rsz hgz))
  refine bodyPost_ret (v := .agg (gZ 1 0 0 0)) (results_cell_row Try.results10 _ wz B 28 _ (0, 0) _ rfl rsz Try.underlying28 rfl infoG) rfl ⟨rfl, ?_⟩
  exact grownBy_new hG2.out hgz (fun k hk => by have h5 := Option.some.inj hk; have h6 := hB2.out; omega)
set_option maxRecDepth 100000 in
set_option maxHeartbeats 1000000 in
theorem g_no (w : World) (g o : Nat) (b : Nat) (hy0 : Hid (∀ wx, w.grownBy wx none → wx.cell? ⟨g, o, none⟩ = some (.int .u8 (b : Int)))) (c : Nat) (hy1 : Hid (∀ wx, w.grownBy wx none → wx.cell? ⟨g, o + 1, none⟩ = some (.int .u8 (c : Int)))) (len cap : Nat) (hl1 : 0 < len) (hl2 : len ≤ cap) (hl3 : cap ≤ 9223372036854775807) (hl4 : ((len : Int) == 0) = false) (hl5 : 1 < len) (hl6 : ((len : Int) == 1) = false) (hb : b < 256) (h2 : 128 ≤ b) (hcc : c < 256) (hg : Hid (bgR b = true)) (q X : Nat) (hq : (b : Int) * 256 = (q : Int)) (hX : (q : Int) + (c : Int) = (X : Int)) (x y z : Int) (hU : Hid (upT (X : Int) = (x, y, z, false))) : Calls Try.prog 10 #[.slice (some ⟨g, o, none⟩) len cap] w fun e w' => e = .returned (.agg (gZ 10 2 0 0)) ∧ w.grownBy w' none := by
  have n92 : ((b : Int) == 92) = false := by simp; omega
  have d128 : ¬ (b : Int) < 128 := by omega
  have hl7 : (1 : Int) < (len : Int) := by omega
  have hl8 : (0 : Int) < (len : Int) := by omega
  have e5 : IntKind.i64.wrap (b : Int) = (b : Int) := by rw [IntKind.wrap_i64]; omega
  have e6 : IntKind.i64.wrap (c : Int) = (c : Int) := by rw [IntKind.wrap_i64]; omega
  have e1 : (b : Int) * 256 = (q : Int) := hq
  have e2 : (q : Int) + (c : Int) = (X : Int) := hX
  have e3 : IntKind.i64.wrap (q : Int) = (q : Int) := by rw [IntKind.wrap_i64]; omega
  have e4 : IntKind.i64.wrap (X : Int) = (X : Int) := by rw [IntKind.wrap_i64]; omega
  have hg90 := Hid.mk' hX
  clear hq hX
  go_enter Try.func10, Try.ntmps10
  go_upto_region 1 with (refine wpList_allocC _ rfl 28 rfl (gZ 0 0 0 0) (zeroG _) ?_; intro w1 rs1 hg1)
  have hG1 : Hid (w.grownBy w1 none) := Hid.mk' hg1
  have hB : Hid (w.heap.size ≤ w.heap.size) := Hid.mk' (Nat.le_refl _)
  obtain ⟨B, hBe⟩ : ∃ B, Hid (w.heap.size = B) := ⟨_, Hid.mk' rfl⟩
  have hB2 : Hid (w.heap.size ≤ B) := Hid.mk' (by rw [← hBe.out]; exact hB.out)
  rw [hBe.out] at rs1
  rw [hBe.out]
  clear hg1 hB hBe
  have y0 := hy0.out _ hG1.out; have y1 := hy1.out _ hG1.out
  go_upto_region 11 with (first
    | (go_at_call 20; refine (begins_any b hb true hg _).mono ?_; rintro e w2 ⟨rfl, hgg⟩; have rs2 := rs1.kept0 hgg; have hG2 : Hid (w.grownBy w2 none) := Hid.mk' (gt hG1.out hgg); clear y0 y1; have y0 := hy0.out _ hG2.out; have y1 := hy1.out _ hG2.out; clear rs1 hgg))
  have hS : Hid (∀ wx, w.grownBy wx none → wx.cell? ⟨g, o, none⟩ = some (.int .u8 (b : Int)) ∧ wx.cell? ⟨g, o + 1, none⟩ = some (.int .u8 (c : Int))) := Hid.mk' (fun wx hg => ⟨hy0.out _ hg, hy1.out _ hg⟩)
  have hS0 := hS.out _ hG2.out
  have hSd := hS.out _ (grownBy_drew hG2.out)
  go_region_held3 (fun w' => w'.cell? ⟨g, o, none⟩ = some (.int .u8 (b : Int)) ∧ w'.cell? ⟨g, o + 1, none⟩ = some (.int .u8 (c : Int))) (first | assumption | exact hS0) (first
    | (go_at_call 16; refine (unpackRef (X : Int) x y z false hU _).mono ?_; rintro e w3 ⟨rfl, hg⟩; have rs3 : Hid (CA w3 B 28 (gZ 0 0 0 0)) := Hid.mk' (rs2.kept0 (by (repeat (first | with_reducible exact grownBy_refl _ _ | (with_reducible refine gs ?_ ?_; first | omega | (simp; omega)) | with_reducible refine ga ?_ | with_reducible refine gd ?_ | with_reducible refine gdn ?_ | with_reducible refine gt ?_ (by assumption))))); have hG3 : Hid (w.grownBy w3 none) := Hid.mk' (gt hG2.out (by (repeat (first | with_reducible exact grownBy_refl _ _ | (with_reducible refine gs ?_ ?_; first | omega | (simp; omega)) | with_reducible refine ga ?_ | with_reducible refine gd ?_ | with_reducible refine gdn ?_ | with_reducible refine gt ?_ (by assumption))))); have hS3 := hS.out _ hG3.out))
  go_wp2_with (refine wpList_storeC _ rfl 28 _ _ rfl B (gZ 0 0 0 0) (gZ 10 2 0 0) infoG rfl (gC_one _ _ _ _ _ _ _ _ _) rfl rfl rs3.out ?_; intro wz rsz hgz)
  refine bodyPost_ret (v := .agg (gZ 10 2 0 0)) (results_cell_row Try.results10 _ wz B 28 _ (0, 0) _ rfl rsz Try.underlying28 rfl infoG) rfl ⟨rfl, ?_⟩
  exact grownBy_new hG3.out hgz (fun k hk => by have h5 := Option.some.inj hk; have h6 := hB2.out; omega)
set_option maxRecDepth 100000 in
set_option maxHeartbeats 1000000 in
theorem g_yes (w : World) (g o : Nat) (b : Nat) (hy0 : Hid (∀ wx, w.grownBy wx none → wx.cell? ⟨g, o, none⟩ = some (.int .u8 (b : Int)))) (c : Nat) (hy1 : Hid (∀ wx, w.grownBy wx none → wx.cell? ⟨g, o + 1, none⟩ = some (.int .u8 (c : Int)))) (len cap : Nat) (hl1 : 0 < len) (hl2 : len ≤ cap) (hl3 : cap ≤ 9223372036854775807) (hl4 : ((len : Int) == 0) = false) (hl5 : 1 < len) (hl6 : ((len : Int) == 1) = false) (hb : b < 256) (h2 : 128 ≤ b) (hcc : c < 256) (hg : Hid (bgR b = true)) (q X : Nat) (hq : (b : Int) * 256 = (q : Int)) (hX : (q : Int) + (c : Int) = (X : Int)) (x y z : Int) (hi : C16.In3 x y z) (hU : Hid (upT (X : Int) = (x, y, z, true))) : Calls Try.prog 10 #[.slice (some ⟨g, o, none⟩) len cap] w fun e w' => e = .returned (.agg (gZ 0 2 1 (C16.syV x y z))) ∧ w.grownBy w' none := by
  have n92 : ((b : Int) == 92) = false := by simp; omega
  have d128 : ¬ (b : Int) < 128 := by omega
  have hl7 : (1 : Int) < (len : Int) := by omega
  have hl8 : (0 : Int) < (len : Int) := by omega
  have e5 : IntKind.i64.wrap (b : Int) = (b : Int) := by rw [IntKind.wrap_i64]; omega
  have e6 : IntKind.i64.wrap (c : Int) = (c : Int) := by rw [IntKind.wrap_i64]; omega
  have e1 : (b : Int) * 256 = (q : Int) := hq
  have e2 : (q : Int) + (c : Int) = (X : Int) := hX
  have e3 : IntKind.i64.wrap (q : Int) = (q : Int) := by rw [IntKind.wrap_i64]; omega
  have e4 : IntKind.i64.wrap (X : Int) = (X : Int) := by rw [IntKind.wrap_i64]; omega
  have hg90 := Hid.mk' hX
  clear hq hX
  go_enter Try.func10, Try.ntmps10
  go_upto_region 1 with (refine wpList_allocC _ rfl 28 rfl (gZ 0 0 0 0) (zeroG _) ?_; intro w1 rs1 hg1)
  have hG1 : Hid (w.grownBy w1 none) := Hid.mk' hg1
  have hB : Hid (w.heap.size ≤ w.heap.size) := Hid.mk' (Nat.le_refl _)
  obtain ⟨B, hBe⟩ : ∃ B, Hid (w.heap.size = B) := ⟨_, Hid.mk' rfl⟩
  have hB2 : Hid (w.heap.size ≤ B) := Hid.mk' (by rw [← hBe.out]; exact hB.out)
  rw [hBe.out] at rs1
  rw [hBe.out]
  clear hg1 hB hBe
  have y0 := hy0.out _ hG1.out; have y1 := hy1.out _ hG1.out
  go_upto_region 11 with (first
    | (go_at_call 20; refine (begins_any b hb true hg _).mono ?_; rintro e w2 ⟨rfl, hgg⟩; have rs2 := rs1.kept0 hgg; have hG2 : Hid (w.grownBy w2 none) := Hid.mk' (gt hG1.out hgg); clear y0 y1; have y0 := hy0.out _ hG2.out; have y1 := hy1.out _ hG2.out; clear rs1 hgg))
  have hS : Hid (∀ wx, w.grownBy wx none → wx.cell? ⟨g, o, none⟩ = some (.int .u8 (b : Int)) ∧ wx.cell? ⟨g, o + 1, none⟩ = some (.int .u8 (c : Int))) := Hid.mk' (fun wx hg => ⟨hy0.out _ hg, hy1.out _ hg⟩)
  have hS0 := hS.out _ hG2.out
  have hSd := hS.out _ (grownBy_drew hG2.out)
  go_region_held3 (fun w' => w'.cell? ⟨g, o, none⟩ = some (.int .u8 (b : Int)) ∧ w'.cell? ⟨g, o + 1, none⟩ = some (.int .u8 (c : Int))) (first | assumption | exact hS0) (first
    | (go_at_call 16; refine (unpackRef (X : Int) x y z true hU _).mono ?_; rintro e w3 ⟨rfl, hg⟩; have rs3 : Hid (CA w3 B 28 (gZ 0 0 0 0)) := Hid.mk' (rs2.kept0 (by (repeat (first | with_reducible exact grownBy_refl _ _ | (with_reducible refine gs ?_ ?_; first | omega | (simp; omega)) | with_reducible refine ga ?_ | with_reducible refine gd ?_ | with_reducible refine gdn ?_ | with_reducible refine gt ?_ (by assumption))))); have hG3 : Hid (w.grownBy w3 none) := Hid.mk' (gt hG2.out (by (repeat (first | with_reducible exact grownBy_refl _ _ | (with_reducible refine gs ?_ ?_; first | omega | (simp; omega)) | with_reducible refine ga ?_ | with_reducible refine gd ?_ | with_reducible refine gdn ?_ | with_reducible refine gt ?_ (by assumption))))); have hS3 := hS.out _ hG3.out))
  go_wp2_with (first
    | (go_at_call 21; refine (C16.refSyl_yes x y z hi _).mono ?_; rintro e w4 ⟨rfl, hw4⟩; have rs4 : Hid (CA w4 B 28 (gZ 0 0 0 0)) := Hid.mk' (by rw [hw4]; exact rs3.out); have hG4 : Hid (w.grownBy w4 none) := Hid.mk' (by rw [hw4]; exact hG3.out); clear hw4)
    | (refine wpList_storeC _ rfl 28 _ _ rfl B (gZ 0 0 0 0) (gZ 0 2 1 (C16.syV x y z)) infoG rfl (gC_one _ _ _ _ _ _ _ _ _) rfl rfl rs4.out ?_; intro wz rsz hgz))
  refine bodyPost_ret (v := .agg (gZ 0 2 1 (C16.syV x y z))) (results_cell_row Try.results10 _ wz B 28 _ (0, 0) _ rfl rsz Try.underlying28 rfl infoG) rfl ⟨rfl, ?_⟩
  exact grownBy_new hG4.out hgz (fun k hk => by have h5 := Option.some.inj hk; have h6 := hB2.out; omega)
theorem partsNo (u : Int) (h : ¬ C16.InS u) (w : World) : Calls Try.prog 23 #[.int .i32 u] w fun e w' => e = .returned (.tuple #[.int .i64 0, .int .i64 0, .int .i64 0, .bool false]) ∧ w.grownBy w' none := (C16.refParts_no u h w).mono (fun e w' h => ⟨h.1, by rw [h.2]; exact grownBy_refl _ _⟩)
theorem partsYes (n : Nat) (u : Int) (hu : u = (n : Int) + 44032) (hn : n ≤ 11171) (w : World) : Calls Try.prog 23 #[.int .i32 u] w fun e w' => e = .returned (.tuple #[.int .i64 ((n / 588 : Nat) : Int), .int .i64 ((n % 588 / 28 : Nat) : Int), .int .i64 ((n % 28 : Nat) : Int), .bool true]) ∧ w.grownBy w' none := by
  have := C16.refParts_yes u (by unfold C16.InS; omega) w
  rw [show u - 44032 = (n : Int) by omega] at this
  exact this.mono (fun e w' h => ⟨h.1, by rw [h.2]; exact grownBy_refl _ _⟩)
theorem packN (n : Nat) (hn : n ≤ 11171) (w : World) : Calls Try.prog 14 #[.int .i64 ((n / 588 : Nat) : Int), .int .i64 ((n % 588 / 28 : Nat) : Int), .int .i64 ((n % 28 : Nat) : Int)] w fun e w' => e = .returned (.tuple #[.int .i64 (cdN n : Int), .bool true]) ∧ w.grownBy w' none := pack_yes (n / 588) (n % 588 / 28) (n % 28) (by omega) (by omega) (by omega) w
set_option maxRecDepth 100000 in
set_option maxHeartbeats 1000000 in
theorem s_won (u : Int) (h1 : (u == 8361) = true) (w : World) : Calls Try.prog 12 #[.int .i32 u] w fun e w' => e = .returned (.agg (pZ 0 ⟨#[92]⟩)) ∧ w.grownBy w' none := by
  go_enter Try.func12, Try.ntmps12
  go_upto_region 1 with (refine wpList_allocC _ rfl 32 rfl (pZ 0 ⟨#[]⟩) (zeroP _) ?_; intro w1 rs1 hg1)
  have hG1 : Hid (w.grownBy w1 none) := Hid.mk' hg1
  have hB : Hid (w.heap.size ≤ w.heap.size) := Hid.mk' (Nat.le_refl _)
  obtain ⟨B, hBe⟩ : ∃ B, Hid (w.heap.size = B) := ⟨_, Hid.mk' rfl⟩
  have hB2 : Hid (w.heap.size ≤ B) := Hid.mk' (by rw [← hBe.out]; exact hB.out)
  rw [hBe.out] at rs1
  rw [hBe.out]
  clear hg1 hB hBe
  go_wp2_with (first
    | (refine wpList_storeC _ rfl 32 _ _ rfl B (pZ 0 ⟨#[]⟩) (pZ 0 ⟨#[92]⟩) infoP rfl (pC_one _ _ _ _ _ _) rfl rfl rs1 ?_; intro wz rsz hgz))
  refine bodyPost_ret (v := .agg (pZ 0 ⟨#[92]⟩)) (results_cell_row Try.results12 _ wz B 32 _ (0, 0) _ rfl rsz Try.underlying32 rfl infoP) rfl ⟨rfl, ?_⟩
  exact grownBy_new hG1.out hgz (fun k hk => by have h5 := Option.some.inj hk; have h6 := hB2.out; omega)
set_option maxRecDepth 100000 in
set_option maxHeartbeats 1000000 in
theorem s_low (n : Nat) (hn : n < 128) (h92 : ¬ n = 92) (w : World) : Calls Try.prog 12 #[.int .i32 (n : Int)] w fun e w' => e = .returned (.agg (pZ 0 (str [b8 n]))) ∧ w.grownBy w' none := by
  have w0 : ((n : Int) == 8361) = false := by simp; omega
  have p0 : decide (0 ≤ (n : Int)) = true := by simp
  have p1 : decide ((n : Int) < 128) = true := by simp; omega
  have p2 : ((n : Int) != 92) = true := by simp; omega
  have p3 : (n : Int) < 256 := by omega
  have hcv0 := Hid.mk' (fun w => conv_one (show n < 256 by omega) w)
  go_enter Try.func12, Try.ntmps12
  go_upto_region 1 with (refine wpList_allocC _ rfl 32 rfl (pZ 0 ⟨#[]⟩) (zeroP _) ?_; intro w1 rs1 hg1)
  have hG1 : Hid (w.grownBy w1 none) := Hid.mk' hg1
  have hB : Hid (w.heap.size ≤ w.heap.size) := Hid.mk' (Nat.le_refl _)
  obtain ⟨B, hBe⟩ : ∃ B, Hid (w.heap.size = B) := ⟨_, Hid.mk' rfl⟩
  have hB2 : Hid (w.heap.size ≤ B) := Hid.mk' (by rw [← hBe.out]; exact hB.out)
  rw [hBe.out] at rs1
  rw [hBe.out]
  clear hg1 hB hBe
  have hcv := hcv0.out w1
  go_wp2_with (first
    | (refine wpList_storeC _ rfl 32 _ _ rfl B (pZ 0 ⟨#[]⟩) (pZ 0 (str [b8 n])) infoP rfl (pC_one _ _ _ _ _ _) rfl rfl (rs1.kept0 (World.grownBy_alloc _ _ _)) ?_; intro wz rsz hgz))
  refine bodyPost_ret (v := .agg (pZ 0 (str [b8 n]))) (results_cell_row Try.results12 _ wz B 32 _ (0, 0) _ rfl rsz Try.underlying32 rfl infoP) rfl ⟨rfl, ?_⟩
  exact grownBy_new (gt hG1.out (World.grownBy_alloc _ _ _)) hgz (fun k hk => by have h5 := Option.some.inj hk; have h6 := hB2.out; omega)
set_option maxRecDepth 100000 in
set_option maxHeartbeats 1000000 in
theorem s_nonea (u : Int) (hw0 : (u == 8361) = false) (h1 : u < 0) (hs : ¬ C16.InS u) (w : World) : Calls Try.prog 12 #[.int .i32 u] w fun e w' => e = .returned (.agg (pZ 11 ⟨#[]⟩)) ∧ w.grownBy w' none := by
  have p0 : decide (0 ≤ u) = false := by simp; omega
  go_enter Try.func12, Try.ntmps12
  go_upto_region 1 with (refine wpList_allocC _ rfl 32 rfl (pZ 0 ⟨#[]⟩) (zeroP _) ?_; intro w1 rs1 hg1)
  have hG1 : Hid (w.grownBy w1 none) := Hid.mk' hg1
  have hB : Hid (w.heap.size ≤ w.heap.size) := Hid.mk' (Nat.le_refl _)
  obtain ⟨B, hBe⟩ : ∃ B, Hid (w.heap.size = B) := ⟨_, Hid.mk' rfl⟩
  have hB2 : Hid (w.heap.size ≤ B) := Hid.mk' (by rw [← hBe.out]; exact hB.out)
  rw [hBe.out] at rs1
  rw [hBe.out]
  clear hg1 hB hBe
  go_wp2_with (first
    | (go_at_call 23; refine (partsNo u hs _).mono ?_; rintro e w2 ⟨rfl, hg⟩; have rs2 := rs1.kept0 hg; have hG2 : Hid (w.grownBy w2 none) := Hid.mk' (gt hG1.out hg); clear rs1 hg)
    | (refine wpList_storeC _ rfl 32 _ _ rfl B (pZ 0 ⟨#[]⟩) (pZ 11 ⟨#[]⟩) infoP rfl (pC_one _ _ _ _ _ _) rfl rfl rs2 ?_; intro wz rsz hgz))
  refine bodyPost_ret (v := .agg (pZ 11 ⟨#[]⟩)) (results_cell_row Try.results12 _ wz B 32 _ (0, 0) _ rfl rsz Try.underlying32 rfl infoP) rfl ⟨rfl, ?_⟩
  exact grownBy_new hG2.out hgz (fun k hk => by have h5 := Option.some.inj hk; have h6 := hB2.out; omega)
set_option maxRecDepth 100000 in
set_option maxHeartbeats 1000000 in
theorem s_noneb (u : Int) (hw0 : (u == 8361) = false) (h1 : 128 ≤ u) (hs : ¬ C16.InS u) (w : World) : Calls Try.prog 12 #[.int .i32 u] w fun e w' => e = .returned (.agg (pZ 11 ⟨#[]⟩)) ∧ w.grownBy w' none := by
  have p0 : decide (0 ≤ u) = true := by simp; omega
  have p1 : decide (u < 128) = false := by simp; omega
  go_enter Try.func12, Try.ntmps12
  go_upto_region 1 with (refine wpList_allocC _ rfl 32 rfl (pZ 0 ⟨#[]⟩) (zeroP _) ?_; intro w1 rs1 hg1)
  have hG1 : Hid (w.grownBy w1 none) := Hid.mk' hg1
  have hB : Hid (w.heap.size ≤ w.heap.size) := Hid.mk' (Nat.le_refl _)
  obtain ⟨B, hBe⟩ : ∃ B, Hid (w.heap.size = B) := ⟨_, Hid.mk' rfl⟩
  have hB2 : Hid (w.heap.size ≤ B) := Hid.mk' (by rw [← hBe.out]; exact hB.out)
  rw [hBe.out] at rs1
  rw [hBe.out]
  clear hg1 hB hBe
  go_wp2_with (first
    | (go_at_call 23; refine (partsNo u hs _).mono ?_; rintro e w2 ⟨rfl, hg⟩; have rs2 := rs1.kept0 hg; have hG2 : Hid (w.grownBy w2 none) := Hid.mk' (gt hG1.out hg); clear rs1 hg)
    | (refine wpList_storeC _ rfl 32 _ _ rfl B (pZ 0 ⟨#[]⟩) (pZ 11 ⟨#[]⟩) infoP rfl (pC_one _ _ _ _ _ _) rfl rfl rs2 ?_; intro wz rsz hgz))
  refine bodyPost_ret (v := .agg (pZ 11 ⟨#[]⟩)) (results_cell_row Try.results12 _ wz B 32 _ (0, 0) _ rfl rsz Try.underlying32 rfl infoP) rfl ⟨rfl, ?_⟩
  exact grownBy_new hG2.out hgz (fun k hk => by have h5 := Option.some.inj hk; have h6 := hB2.out; omega)
set_option maxRecDepth 100000 in
set_option maxHeartbeats 1000000 in
theorem s_nonec (u : Int) (hw0 : (u == 8361) = false) (h1 : u = 92) (hs : ¬ C16.InS u) (w : World) : Calls Try.prog 12 #[.int .i32 u] w fun e w' => e = .returned (.agg (pZ 11 ⟨#[]⟩)) ∧ w.grownBy w' none := by
  have p0 : decide (0 ≤ u) = true := by simp; omega
  have p1 : decide (u < 128) = true := by simp; omega
  have p2 : (u != 92) = false := by simp; omega
  have h10 := Hid.mk' h1
  clear h1
  go_enter Try.func12, Try.ntmps12
  go_upto_region 1 with (refine wpList_allocC _ rfl 32 rfl (pZ 0 ⟨#[]⟩) (zeroP _) ?_; intro w1 rs1 hg1)
  have hG1 : Hid (w.grownBy w1 none) := Hid.mk' hg1
  have hB : Hid (w.heap.size ≤ w.heap.size) := Hid.mk' (Nat.le_refl _)
  obtain ⟨B, hBe⟩ : ∃ B, Hid (w.heap.size = B) := ⟨_, Hid.mk' rfl⟩
  have hB2 : Hid (w.heap.size ≤ B) := Hid.mk' (by rw [← hBe.out]; exact hB.out)
  rw [hBe.out] at rs1
  rw [hBe.out]
  clear hg1 hB hBe
  go_wp2_with (first
    | (go_at_call 23; refine (partsNo u hs _).mono ?_; rintro e w2 ⟨rfl, hg⟩; have rs2 := rs1.kept0 hg; have hG2 : Hid (w.grownBy w2 none) := Hid.mk' (gt hG1.out hg); clear rs1 hg)
    | (refine wpList_storeC _ rfl 32 _ _ rfl B (pZ 0 ⟨#[]⟩) (pZ 11 ⟨#[]⟩) infoP rfl (pC_one _ _ _ _ _ _) rfl rfl rs2 ?_; intro wz rsz hgz))
  refine bodyPost_ret (v := .agg (pZ 11 ⟨#[]⟩)) (results_cell_row Try.results12 _ wz B 32 _ (0, 0) _ rfl rsz Try.underlying32 rfl infoP) rfl ⟨rfl, ?_⟩
  exact grownBy_new hG2.out hgz (fun k hk => by have h5 := Option.some.inj hk; have h6 := hB2.out; omega)
set_option maxRecDepth 100000 in
set_option maxHeartbeats 1000000 in
theorem s_syl (u : Int) (n : Nat) (hn : n ≤ 11171) (hu : Hid (u = (n : Int) + 44032)) (h1 : 128 ≤ u) (hw0 : (u == 8361) = false) (cd x y : Nat) (hcd : Hid (cdN n = cd)) (hx : (cd : Int).tdiv 256 = (x : Int)) (hy : (cd : Int).tmod 256 = (y : Int)) (hx2 : x < 256) (hy2 : y < 256) (w : World) : Calls Try.prog 12 #[.int .i32 u] w fun e w' => e = .returned (.agg (pZ 0 (str [b8 x, b8 y]))) ∧ w.grownBy w' none := by
  have p0 : decide (0 ≤ u) = true := by simp; omega
  have p1 : decide (u < 128) = false := by simp; omega
  have q3 : (x : Int) < 256 := by omega
  have q4 : (y : Int) < 256 := by omega
  have a1 : Hid (∀ w, Calls Try.prog 14 #[.int .i64 ((n / 588 : Nat) : Int), .int .i64 ((n % 588 / 28 : Nat) : Int), .int .i64 ((n % 28 : Nat) : Int)] w fun e w' => e = .returned (.tuple #[.int .i64 (cd : Int), .bool true]) ∧ w.grownBy w' none) := Hid.mk' (fun w => by have := packN n hn w; rwa [hcd.out] at this)
  go_enter Try.func12, Try.ntmps12
  go_upto_region 1 with (refine wpList_allocC _ rfl 32 rfl (pZ 0 ⟨#[]⟩) (zeroP _) ?_; intro w1 rs1 hg1)
  have hG1 : Hid (w.grownBy w1 none) := Hid.mk' hg1
  have hB : Hid (w.heap.size ≤ w.heap.size) := Hid.mk' (Nat.le_refl _)
  obtain ⟨B, hBe⟩ : ∃ B, Hid (w.heap.size = B) := ⟨_, Hid.mk' rfl⟩
  have hB2 : Hid (w.heap.size ≤ B) := Hid.mk' (by rw [← hBe.out]; exact hB.out)
  rw [hBe.out] at rs1
  rw [hBe.out]
  clear hg1 hB hBe
  go_wp2_with (first
    | (go_at_call 23; refine (partsYes n u hu.out hn _).mono ?_; rintro e w2 ⟨rfl, hg⟩; have rs2 := rs1.kept0 hg; have hG2 : Hid (w.grownBy w2 none) := Hid.mk' (gt hG1.out hg); clear rs1 hg)
    | (go_at_call 14; refine (a1.out _).mono ?_; rintro e w3 ⟨rfl, hg⟩; have rs3 := rs2.kept0 hg; have hG3 : Hid (w.grownBy w3 none) := Hid.mk' (gt hG2.out hg); clear rs2 hg; have hcv := conv_two hx2 hy2 w3)
    | (refine wpList_storeC _ rfl 32 _ _ rfl B (pZ 0 ⟨#[]⟩) (pZ 0 (str [b8 x, b8 y])) infoP rfl (pC_one _ _ _ _ _ _) rfl rfl (rs3.kept0 (World.grownBy_alloc _ _ _)) ?_; intro wz rsz hgz))
  refine bodyPost_ret (v := .agg (pZ 0 (str [b8 x, b8 y]))) (results_cell_row Try.results12 _ wz B 32 _ (0, 0) _ rfl rsz Try.underlying32 rfl infoP) rfl ⟨rfl, ?_⟩
  exact grownBy_new (gt hG3.out (World.grownBy_alloc _ _ _)) hgz (fun k hk => by have h5 := Option.some.inj hk; have h6 := hB2.out; omega)
theorem setRef_any (u : Int) (w : World) : Calls Try.prog 12 #[.int .i32 u] w fun e w' => e = .returned (putV (sE u)) ∧ w.grownBy w' none := by
  unfold sE
  by_cases h1 : u = 8361
  · rw [if_pos h1]
    exact s_won u (by simpa using h1) w
  · have hw0 : (u == 8361) = false := by simpa using h1
    rw [if_neg h1]
    by_cases h2 : 0 ≤ u ∧ u < 128 ∧ u ≠ 92
    · rw [if_pos h2]
      obtain ⟨n, rfl⟩ : ∃ n : Nat, u = (n : Int) := ⟨u.toNat, by omega⟩
      rw [Int.toNat_natCast]
      exact s_low n (by omega) (by omega) w
    · rw [if_neg h2]
      by_cases h3 : C16.InS u
      · rw [if_pos h3]
        have h4 : 44032 ≤ u ∧ u ≤ 55203 := h3
        obtain ⟨n, hn⟩ : ∃ n : Nat, u - 44032 = (n : Int) := ⟨(u - 44032).toNat, by omega⟩
        rw [hn, Int.toNat_natCast]
        obtain ⟨k1, k2, _⟩ := cdN_is (n := n) (by omega)
        exact s_syl u n (by omega) (Hid.mk' (by omega)) (by omega) hw0 (cdN n) _ _ (Hid.mk' rfl) (by rw [Int.tdiv_eq_ediv_of_nonneg (by omega)]; omega) (by rw [Int.tmod_eq_emod_of_nonneg (by omega)]; omega) (by omega) (by omega) w
      · rw [if_neg h3]
        by_cases h5 : u < 0
        · exact s_nonea u hw0 h5 h3 w
        · by_cases h6 : 128 ≤ u
          · exact s_noneb u hw0 h6 h3 w
          · exact s_nonec u hw0 (by omega) h3 w
theorem getRef_any (ao : Option Addr) (cap : Nat) (L : List UInt8) (n : Nat) (hn : L.length = n) (w : World) (hB : Bytes w ao L) (hc : n ≤ cap) (hcm : cap ≤ 9223372036854775807) : Calls Try.prog 10 #[.slice ao n cap] w fun e w' => e = .returned (gotV (gE L)) ∧ w.grownBy w' none := by
  subst hn
  unfold gE
  cases L with
  | nil => exact g_more w ao cap
  | cons b r =>
    obtain ⟨g, o, rfl, hy0⟩ := first_cell hB
    have hy := Hid.mk' hy0
    have hb := b.toNat_lt
    simp only
    have hl1 : 0 < (b :: r).length := by simp
    have hl4 : (((b :: r).length : Int) == 0) = false := by simp; omega
    by_cases h1 : b.toNat = 92
    · rw [if_pos h1]
      exact g_92 w g o _ hy _ cap hl1 hc hcm hl4 h1
    · rw [if_neg h1]
      by_cases h2 : b.toNat < 128
      · rw [if_pos h2]
        exact g_low w g o _ hy _ cap hl1 hc hcm hl4 h1 h2
      · rw [if_neg h2]
        cases hg : bgR b.toNat with
        | false =>
          rw [if_pos rfl]
          exact g_bad w g o _ hy _ cap hl1 hc hcm hl4 hb (by omega) (Hid.mk' hg)
        | true =>
          rw [if_neg (by simp)]
          cases r with
          | nil => exact g_one w g o _ hy cap hc hcm hb (by omega) (Hid.mk' hg)
          | cons c r =>
            have hy1 := Hid.mk' (second_cell hB)
            have hcc := c.toNat_lt
            have hl5 : 1 < (b :: c :: r).length := by simp
            have hl6 : (((b :: c :: r).length : Int) == 1) = false := by simp; omega
            simp only
            unfold gE2
            cases hu : upT ((b.toNat * 256 + c.toNat : Nat) : Int) with
            | mk x q =>
            obtain ⟨y, z, ok⟩ := q
            cases ok with
            | false => exact g_no w g o _ hy _ hy1 _ cap hl1 hc hcm hl4 hl5 hl6 hb (by omega) hcc (Hid.mk' hg) (b.toNat * 256) (b.toNat * 256 + c.toNat) (by omega) (by omega) x y z (Hid.mk' hu)
            | true =>
              obtain ⟨a, b', d, e1, e2, e3, k1, k2, k3, _⟩ := of_up hu
              exact g_yes w g o _ hy _ hy1 _ cap hl1 hc hcm hl4 hl5 hl6 hb (by omega) hcc (Hid.mk' hg) (b.toNat * 256) (b.toNat * 256 + c.toNat) (by omega) (by omega) x y z (by rw [e1, e2, e3]; exact nat_in3 k1 k2 k3) (Hid.mk' hu)
end Go.Proofs.Ytdphkpjamclhjaa.C19
