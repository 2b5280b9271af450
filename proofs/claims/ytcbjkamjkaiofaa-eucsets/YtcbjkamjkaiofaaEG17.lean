/- The document's Get of layer 17: walks, a way each. -/
import Derived.Test.YtcbjkamjkaiofaaES17
import Derived.Deep.RegionHeld3
import Derived.BigQuiet
namespace Go.Proofs.Ytcbjkamjkaiofaa.C17
open Go.ChangeShapes Go.WideShapes Go.ChangeAt Go.RowKit Go.Proofs.Ytcbjkamjkaiofaa.Mem Go.Proofs.Ytcbjkamjkaiofaa.Cb Go.Proofs.Ytcbjkamjkaiofaa.Sp
set_option linter.unusedVariables false
set_option linter.unusedSimpArgs false

set_option maxRecDepth 100000 in
set_option maxHeartbeats 1000000 in
theorem g_kind (k : Int) (hk : Hid (has k = false)) (ao : Option Addr) (len cap : Nat) (w : World) : Calls Try.prog 9 #[.int .i64 k, .slice ao len cap] w fun e w' => e = .returned (.agg (gZ 5 0 0 0)) ∧ w.grownBy w' none := by
  go_enter Try.func9, Try.ntmps9
  go_upto_region 1 with (refine wpList_allocC _ rfl 28 rfl (gZ 0 0 0 0) (zeroG _) ?_; intro w1 rs1 hg1)
  have hG1 : Hid (w.grownBy w1 none) := Hid.mk' hg1
  have hB : Hid (w.heap.size ≤ w.heap.size) := Hid.mk' (Nat.le_refl _)
  obtain ⟨B, hBe⟩ : ∃ B, Hid (w.heap.size = B) := ⟨_, Hid.mk' rfl⟩
  have hB2 : Hid (w.heap.size ≤ B) := Hid.mk' (by rw [← hBe.out]; exact hB.out)
  rw [hBe.out] at rs1
  rw [hBe.out]
  clear hg1 hB hBe
  go_wp2_with (first
    | (go_at_call 11; refine (hasRef k false hk _).mono ?_; rintro e w2 ⟨rfl, hg⟩; have rs2 := rs1.kept0 hg; have hG2 : Hid (w.grownBy w2 none) := Hid.mk' (gt hG1.out hg); clear rs1 hg)
    | (refine wpList_storeC _ rfl 28 _ _ rfl B (gZ 0 0 0 0) (gZ 5 0 0 0) infoG rfl (gC_one _ _ _ _ _ _ _ _ _) rfl rfl rs2 ?_; intro wz rsz hgz))
  refine bodyPost_ret (v := .agg (gZ 5 0 0 0)) (results_cell_row Try.results9 _ wz B 28 _ (0, 0) _ rfl rsz Try.underlying28 rfl infoG) rfl ⟨rfl, ?_⟩
  exact grownBy_new hG2.out hgz (fun k hk => by have h5 := Option.some.inj hk; have h6 := hB2.out; omega)
set_option maxRecDepth 100000 in
set_option maxHeartbeats 1000000 in
theorem g_more (k : Int) (hk : Hid (has k = true)) (ao : Option Addr) (cap : Nat) (w : World) : Calls Try.prog 9 #[.int .i64 k, .slice ao 0 cap] w fun e w' => e = .returned (.agg (gZ 1 0 0 0)) ∧ w.grownBy w' none := by
  go_enter Try.func9, Try.ntmps9
  go_upto_region 1 with (refine wpList_allocC _ rfl 28 rfl (gZ 0 0 0 0) (zeroG _) ?_; intro w1 rs1 hg1)
  have hG1 : Hid (w.grownBy w1 none) := Hid.mk' hg1
  have hB : Hid (w.heap.size ≤ w.heap.size) := Hid.mk' (Nat.le_refl _)
  obtain ⟨B, hBe⟩ : ∃ B, Hid (w.heap.size = B) := ⟨_, Hid.mk' rfl⟩
  have hB2 : Hid (w.heap.size ≤ B) := Hid.mk' (by rw [← hBe.out]; exact hB.out)
  rw [hBe.out] at rs1
  rw [hBe.out]
  clear hg1 hB hBe
  go_wp2_with (first
    | (go_at_call 11; refine (hasRef k true hk _).mono ?_; rintro e w2 ⟨rfl, hg⟩; have rs2 := rs1.kept0 hg; have hG2 : Hid (w.grownBy w2 none) := Hid.mk' (gt hG1.out hg); clear rs1 hg)
    | (refine wpList_storeC _ rfl 28 _ _ rfl B (gZ 0 0 0 0) (gZ 1 0 0 0) infoG rfl (gC_one _ _ _ _ _ _ _ _ _) rfl rfl rs2 ?_; intro wz rsz hgz))
  refine bodyPost_ret (v := .agg (gZ 1 0 0 0)) (results_cell_row Try.results9 _ wz B 28 _ (0, 0) _ rfl rsz Try.underlying28 rfl infoG) rfl ⟨rfl, ?_⟩
  exact grownBy_new hG2.out hgz (fun k hk => by have h5 := Option.some.inj hk; have h6 := hB2.out; omega)
set_option maxRecDepth 100000 in
set_option maxHeartbeats 1000000 in
theorem g_low (w : World) (k : Int) (hk : Hid (has k = true)) (g o : Nat) (b : Nat) (hy0 : Hid (∀ wx, w.grownBy wx none → wx.cell? ⟨g, o, none⟩ = some (.int .u8 (b : Int)))) (len cap : Nat) (hl1 : 0 < len) (hl2 : len ≤ cap) (hl3 : cap ≤ 9223372036854775807) (hl4 : ((len : Int) == 0) = false) (h1 : b < 128) : Calls Try.prog 9 #[.int .i64 k, .slice (some ⟨g, o, none⟩) len cap] w fun e w' => e = .returned (.agg (gZ 0 1 1 (b : Int))) ∧ w.grownBy w' none := by
  have h1' : (b : Int) < 128 := by omega
  have h0 : ((b : Int) == 142) = false := by simp; omega
  go_enter Try.func9, Try.ntmps9
  go_upto_region 1 with (refine wpList_allocC _ rfl 28 rfl (gZ 0 0 0 0) (zeroG _) ?_; intro w1 rs1 hg1)
  have hG1 : Hid (w.grownBy w1 none) := Hid.mk' hg1
  have hB : Hid (w.heap.size ≤ w.heap.size) := Hid.mk' (Nat.le_refl _)
  obtain ⟨B, hBe⟩ : ∃ B, Hid (w.heap.size = B) := ⟨_, Hid.mk' rfl⟩
  have hB2 : Hid (w.heap.size ≤ B) := Hid.mk' (by rw [← hBe.out]; exact hB.out)
  rw [hBe.out] at rs1
  rw [hBe.out]
  clear hg1 hB hBe
  have y0 := hy0.out _ hG1.out
  go_wp2_with (first
    | (go_at_call 11; refine (hasRef k true hk _).mono ?_; rintro e w2 ⟨rfl, hg⟩; have rs2 := rs1.kept0 hg; have hG2 : Hid (w.grownBy w2 none) := Hid.mk' (gt hG1.out hg); clear y0; have y0 := hy0.out _ hG2.out; clear rs1 hg)
    | (refine wpList_storeC _ rfl 28 _ _ rfl B (gZ 0 0 0 0) (gZ 0 1 1 (b : Int)) infoG rfl (gC_one _ _ _ _ _ _ _ _ _) rfl rfl rs2 ?_; intro wz rsz hgz))
  refine bodyPost_ret (v := .agg (gZ 0 1 1 (b : Int))) (results_cell_row Try.results9 _ wz B 28 _ (0, 0) _ rfl rsz Try.underlying28 rfl infoG) rfl ⟨rfl, ?_⟩
  exact grownBy_new hG2.out hgz (fun k hk => by have h5 := Option.some.inj hk; have h6 := hB2.out; omega)
set_option maxRecDepth 100000 in
set_option maxHeartbeats 1000000 in
theorem g_badB (w : World) (k : Int) (hk : Hid (has k = true)) (g o : Nat) (b : Nat) (hy0 : Hid (∀ wx, w.grownBy wx none → wx.cell? ⟨g, o, none⟩ = some (.int .u8 (b : Int)))) (len cap : Nat) (hl1 : 0 < len) (hl2 : len ≤ cap) (hl3 : cap ≤ 9223372036854775807) (hl4 : ((len : Int) == 0) = false) (h1 : b = 142) (h2 : (k == 81) = false) : Calls Try.prog 9 #[.int .i64 k, .slice (some ⟨g, o, none⟩) len cap] w fun e w' => e = .returned (.agg (gZ 10 1 0 0)) ∧ w.grownBy w' none := by
  subst h1
  go_enter Try.func9, Try.ntmps9
  go_upto_region 1 with (refine wpList_allocC _ rfl 28 rfl (gZ 0 0 0 0) (zeroG _) ?_; intro w1 rs1 hg1)
  have hG1 : Hid (w.grownBy w1 none) := Hid.mk' hg1
  have hB : Hid (w.heap.size ≤ w.heap.size) := Hid.mk' (Nat.le_refl _)
  obtain ⟨B, hBe⟩ : ∃ B, Hid (w.heap.size = B) := ⟨_, Hid.mk' rfl⟩
  have hB2 : Hid (w.heap.size ≤ B) := Hid.mk' (by rw [← hBe.out]; exact hB.out)
  rw [hBe.out] at rs1
  rw [hBe.out]
  clear hg1 hB hBe
  have y0 := hy0.out _ hG1.out
  go_wp2_with (first
    | (go_at_call 11; refine (hasRef k true hk _).mono ?_; rintro e w2 ⟨rfl, hg⟩; have rs2 := rs1.kept0 hg; have hG2 : Hid (w.grownBy w2 none) := Hid.mk' (gt hG1.out hg); clear y0; have y0 := hy0.out _ hG2.out; clear rs1 hg)
    | (refine wpList_storeC _ rfl 28 _ _ rfl B (gZ 0 0 0 0) (gZ 10 1 0 0) infoG rfl (gC_one _ _ _ _ _ _ _ _ _) rfl rfl rs2 ?_; intro wz rsz hgz))
  refine bodyPost_ret (v := .agg (gZ 10 1 0 0)) (results_cell_row Try.results9 _ wz B 28 _ (0, 0) _ rfl rsz Try.underlying28 rfl infoG) rfl ⟨rfl, ?_⟩
  exact grownBy_new hG2.out hgz (fun k hk => by have h5 := Option.some.inj hk; have h6 := hB2.out; omega)
set_option maxRecDepth 100000 in
set_option maxHeartbeats 1000000 in
theorem g_badC (w : World) (k : Int) (hk : Hid (has k = true)) (g o : Nat) (b : Nat) (hy0 : Hid (∀ wx, w.grownBy wx none → wx.cell? ⟨g, o, none⟩ = some (.int .u8 (b : Int)))) (len cap : Nat) (hl1 : 0 < len) (hl2 : len ≤ cap) (hl3 : cap ≤ 9223372036854775807) (hl4 : ((len : Int) == 0) = false) (h1 : 128 ≤ b) (h2 : ((b : Int) == 142) = false) (h3 : b < 161) : Calls Try.prog 9 #[.int .i64 k, .slice (some ⟨g, o, none⟩) len cap] w fun e w' => e = .returned (.agg (gZ 10 1 0 0)) ∧ w.grownBy w' none := by
  have h1' : ¬ (b : Int) < 128 := by omega
  have h3' : decide ((b : Int) < 161) = true := by simp; omega
  go_enter Try.func9, Try.ntmps9
  go_upto_region 1 with (refine wpList_allocC _ rfl 28 rfl (gZ 0 0 0 0) (zeroG _) ?_; intro w1 rs1 hg1)
  have hG1 : Hid (w.grownBy w1 none) := Hid.mk' hg1
  have hB : Hid (w.heap.size ≤ w.heap.size) := Hid.mk' (Nat.le_refl _)
  obtain ⟨B, hBe⟩ : ∃ B, Hid (w.heap.size = B) := ⟨_, Hid.mk' rfl⟩
  have hB2 : Hid (w.heap.size ≤ B) := Hid.mk' (by rw [← hBe.out]; exact hB.out)
  rw [hBe.out] at rs1
  rw [hBe.out]
  clear hg1 hB hBe
  have y0 := hy0.out _ hG1.out
  go_wp2_with (first
    | (go_at_call 11; refine (hasRef k true hk _).mono ?_; rintro e w2 ⟨rfl, hg⟩; have rs2 := rs1.kept0 hg; have hG2 : Hid (w.grownBy w2 none) := Hid.mk' (gt hG1.out hg); clear y0; have y0 := hy0.out _ hG2.out; clear rs1 hg)
    | (refine wpList_storeC _ rfl 28 _ _ rfl B (gZ 0 0 0 0) (gZ 10 1 0 0) infoG rfl (gC_one _ _ _ _ _ _ _ _ _) rfl rfl rs2 ?_; intro wz rsz hgz))
  refine bodyPost_ret (v := .agg (gZ 10 1 0 0)) (results_cell_row Try.results9 _ wz B 28 _ (0, 0) _ rfl rsz Try.underlying28 rfl infoG) rfl ⟨rfl, ?_⟩
  exact grownBy_new hG2.out hgz (fun k hk => by have h5 := Option.some.inj hk; have h6 := hB2.out; omega)
set_option maxRecDepth 100000 in
set_option maxHeartbeats 1000000 in
theorem g_badD (w : World) (k : Int) (hk : Hid (has k = true)) (g o : Nat) (b : Nat) (hy0 : Hid (∀ wx, w.grownBy wx none → wx.cell? ⟨g, o, none⟩ = some (.int .u8 (b : Int)))) (len cap : Nat) (hl1 : 0 < len) (hl2 : len ≤ cap) (hl3 : cap ≤ 9223372036854775807) (hl4 : ((len : Int) == 0) = false) (h1 : 254 < b) : Calls Try.prog 9 #[.int .i64 k, .slice (some ⟨g, o, none⟩) len cap] w fun e w' => e = .returned (.agg (gZ 10 1 0 0)) ∧ w.grownBy w' none := by
  have h1' : ¬ (b : Int) < 128 := by omega
  have h2 : ((b : Int) == 142) = false := by simp; omega
  have h3' : decide ((b : Int) < 161) = false := by simp; omega
  have h4' : decide (254 < (b : Int)) = true := by simp; omega
  go_enter Try.func9, Try.ntmps9
  go_upto_region 1 with (refine wpList_allocC _ rfl 28 rfl (gZ 0 0 0 0) (zeroG _) ?_; intro w1 rs1 hg1)
  have hG1 : Hid (w.grownBy w1 none) := Hid.mk' hg1
  have hB : Hid (w.heap.size ≤ w.heap.size) := Hid.mk' (Nat.le_refl _)
  obtain ⟨B, hBe⟩ : ∃ B, Hid (w.heap.size = B) := ⟨_, Hid.mk' rfl⟩
  have hB2 : Hid (w.heap.size ≤ B) := Hid.mk' (by rw [← hBe.out]; exact hB.out)
  rw [hBe.out] at rs1
  rw [hBe.out]
  clear hg1 hB hBe
  have y0 := hy0.out _ hG1.out
  go_wp2_with (first
    | (go_at_call 11; refine (hasRef k true hk _).mono ?_; rintro e w2 ⟨rfl, hg⟩; have rs2 := rs1.kept0 hg; have hG2 : Hid (w.grownBy w2 none) := Hid.mk' (gt hG1.out hg); clear y0; have y0 := hy0.out _ hG2.out; clear rs1 hg)
    | (refine wpList_storeC _ rfl 28 _ _ rfl B (gZ 0 0 0 0) (gZ 10 1 0 0) infoG rfl (gC_one _ _ _ _ _ _ _ _ _) rfl rfl rs2 ?_; intro wz rsz hgz))
  refine bodyPost_ret (v := .agg (gZ 10 1 0 0)) (results_cell_row Try.results9 _ wz B 28 _ (0, 0) _ rfl rsz Try.underlying28 rfl infoG) rfl ⟨rfl, ?_⟩
  exact grownBy_new hG2.out hgz (fun k hk => by have h5 := Option.some.inj hk; have h6 := hB2.out; omega)
set_option maxRecDepth 100000 in
set_option maxHeartbeats 1000000 in
theorem g_oneA (w : World) (g o : Nat) (b : Nat) (hy0 : Hid (∀ wx, w.grownBy wx none → wx.cell? ⟨g, o, none⟩ = some (.int .u8 (b : Int)))) (cap : Nat) (hl2 : 1 ≤ cap) (hl3 : cap ≤ 9223372036854775807) (h1 : b = 142) : Calls Try.prog 9 #[.int .i64 81, .slice (some ⟨g, o, none⟩) 1 cap] w fun e w' => e = .returned (.agg (gZ 1 0 0 0)) ∧ w.grownBy w' none := by
  subst h1
  go_enter Try.func9, Try.ntmps9
  go_upto_region 1 with (refine wpList_allocC _ rfl 28 rfl (gZ 0 0 0 0) (zeroG _) ?_; intro w1 rs1 hg1)
  have hG1 : Hid (w.grownBy w1 none) := Hid.mk' hg1
  have hB : Hid (w.heap.size ≤ w.heap.size) := Hid.mk' (Nat.le_refl _)
  obtain ⟨B, hBe⟩ : ∃ B, Hid (w.heap.size = B) := ⟨_, Hid.mk' rfl⟩
  have hB2 : Hid (w.heap.size ≤ B) := Hid.mk' (by rw [← hBe.out]; exact hB.out)
  rw [hBe.out] at rs1
  rw [hBe.out]
  clear hg1 hB hBe
  have y0 := hy0.out _ hG1.out
  go_wp2_with (first
    | (go_at_call 11; refine (hasRef 81 true (Hid.mk' (by decide)) _).mono ?_; rintro e w2 ⟨rfl, hg⟩; have rs2 := rs1.kept0 hg; have hG2 : Hid (w.grownBy w2 none) := Hid.mk' (gt hG1.out hg); clear y0; have y0 := hy0.out _ hG2.out; clear rs1 hg)
    | (refine wpList_storeC _ rfl 28 _ _ rfl B (gZ 0 0 0 0) (gZ 1 0 0 0) infoG rfl (gC_one _ _ _ _ _ _ _ _ _) rfl rfl rs2 ?_; intro wz rsz hgz))
  refine bodyPost_ret (v := .agg (gZ 1 0 0 0)) (results_cell_row Try.results9 _ wz B 28 _ (0, 0) _ rfl rsz Try.underlying28 rfl infoG) rfl ⟨rfl, ?_⟩
  exact grownBy_new hG2.out hgz (fun k hk => by have h5 := Option.some.inj hk; have h6 := hB2.out; omega)
set_option maxRecDepth 100000 in
set_option maxHeartbeats 1000000 in
theorem g_oneC (w : World) (k : Int) (hk : Hid (has k = true)) (g o : Nat) (b : Nat) (hy0 : Hid (∀ wx, w.grownBy wx none → wx.cell? ⟨g, o, none⟩ = some (.int .u8 (b : Int)))) (cap : Nat) (hl2 : 1 ≤ cap) (hl3 : cap ≤ 9223372036854775807) (h1 : 161 ≤ b) (h2 : b ≤ 254) : Calls Try.prog 9 #[.int .i64 k, .slice (some ⟨g, o, none⟩) 1 cap] w fun e w' => e = .returned (.agg (gZ 1 0 0 0)) ∧ w.grownBy w' none := by
  have hh2 := h2
  clear h2
  have h1' : ¬ (b : Int) < 128 := by omega
  have h2 : ((b : Int) == 142) = false := by simp; omega
  have h3' : decide ((b : Int) < 161) = false := by simp; omega
  have h4' : decide (254 < (b : Int)) = false := by simp; omega
  go_enter Try.func9, Try.ntmps9
  go_upto_region 1 with (refine wpList_allocC _ rfl 28 rfl (gZ 0 0 0 0) (zeroG _) ?_; intro w1 rs1 hg1)
  have hG1 : Hid (w.grownBy w1 none) := Hid.mk' hg1
  have hB : Hid (w.heap.size ≤ w.heap.size) := Hid.mk' (Nat.le_refl _)
  obtain ⟨B, hBe⟩ : ∃ B, Hid (w.heap.size = B) := ⟨_, Hid.mk' rfl⟩
  have hB2 : Hid (w.heap.size ≤ B) := Hid.mk' (by rw [← hBe.out]; exact hB.out)
  rw [hBe.out] at rs1
  rw [hBe.out]
  clear hg1 hB hBe
  have y0 := hy0.out _ hG1.out
  go_wp2_with (first
    | (go_at_call 11; refine (hasRef k true hk _).mono ?_; rintro e w2 ⟨rfl, hg⟩; have rs2 := rs1.kept0 hg; have hG2 : Hid (w.grownBy w2 none) := Hid.mk' (gt hG1.out hg); clear y0; have y0 := hy0.out _ hG2.out; clear rs1 hg)
    | (refine wpList_storeC _ rfl 28 _ _ rfl B (gZ 0 0 0 0) (gZ 1 0 0 0) infoG rfl (gC_one _ _ _ _ _ _ _ _ _) rfl rfl rs2 ?_; intro wz rsz hgz))
  refine bodyPost_ret (v := .agg (gZ 1 0 0 0)) (results_cell_row Try.results9 _ wz B 28 _ (0, 0) _ rfl rsz Try.underlying28 rfl infoG) rfl ⟨rfl, ?_⟩
  exact grownBy_new hG2.out hgz (fun k hk => by have h5 := Option.some.inj hk; have h6 := hB2.out; omega)
set_option maxRecDepth 100000 in
set_option maxHeartbeats 1000000 in
theorem g_illAa (w : World) (g o : Nat) (b : Nat) (hy0 : Hid (∀ wx, w.grownBy wx none → wx.cell? ⟨g, o, none⟩ = some (.int .u8 (b : Int)))) (c : Nat) (hy1 : Hid (∀ wx, w.grownBy wx none → wx.cell? ⟨g, o + 1, none⟩ = some (.int .u8 (c : Int)))) (len cap : Nat) (hl1 : 0 < len) (hl2 : len ≤ cap) (hl3 : cap ≤ 9223372036854775807) (hl4 : ((len : Int) == 0) = false) (hl5 : 1 < len) (hl6 : ((len : Int) == 1) = false) (h1 : b = 142) (h5 : c < 161) : Calls Try.prog 9 #[.int .i64 81, .slice (some ⟨g, o, none⟩) len cap] w fun e w' => e = .returned (.agg (gZ 10 1 0 0)) ∧ w.grownBy w' none := by
  subst h1
  have h5' : decide ((c : Int) < 161) = true := by simp; omega
  go_enter Try.func9, Try.ntmps9
  go_upto_region 1 with (refine wpList_allocC _ rfl 28 rfl (gZ 0 0 0 0) (zeroG _) ?_; intro w1 rs1 hg1)
  have hG1 : Hid (w.grownBy w1 none) := Hid.mk' hg1
  have hB : Hid (w.heap.size ≤ w.heap.size) := Hid.mk' (Nat.le_refl _)
  obtain ⟨B, hBe⟩ : ∃ B, Hid (w.heap.size = B) := ⟨_, Hid.mk' rfl⟩
  have hB2 : Hid (w.heap.size ≤ B) := Hid.mk' (by rw [← hBe.out]; exact hB.out)
  rw [hBe.out] at rs1
  rw [hBe.out]
  clear hg1 hB hBe
  have y0 := hy0.out _ hG1.out; have y1 := hy1.out _ hG1.out
  go_wp2_with (first
    | (go_at_call 11; refine (hasRef 81 true (Hid.mk' (by decide)) _).mono ?_; rintro e w2 ⟨rfl, hg⟩; have rs2 := rs1.kept0 hg; have hG2 : Hid (w.grownBy w2 none) := Hid.mk' (gt hG1.out hg); clear y0 y1; have y0 := hy0.out _ hG2.out; have y1 := hy1.out _ hG2.out; clear rs1 hg)
    | (refine wpList_storeC _ rfl 28 _ _ rfl B (gZ 0 0 0 0) (gZ 10 1 0 0) infoG rfl (gC_one _ _ _ _ _ _ _ _ _) rfl rfl rs2 ?_; intro wz rsz hgz))
  refine bodyPost_ret (v := .agg (gZ 10 1 0 0)) (results_cell_row Try.results9 _ wz B 28 _ (0, 0) _ rfl rsz Try.underlying28 rfl infoG) rfl ⟨rfl, ?_⟩
  exact grownBy_new hG2.out hgz (fun k hk => by have h5 := Option.some.inj hk; have h6 := hB2.out; omega)
set_option maxRecDepth 100000 in
set_option maxHeartbeats 1000000 in
theorem g_illCa (w : World) (k : Int) (hk : Hid (has k = true)) (g o : Nat) (b : Nat) (hy0 : Hid (∀ wx, w.grownBy wx none → wx.cell? ⟨g, o, none⟩ = some (.int .u8 (b : Int)))) (c : Nat) (hy1 : Hid (∀ wx, w.grownBy wx none → wx.cell? ⟨g, o + 1, none⟩ = some (.int .u8 (c : Int)))) (len cap : Nat) (hl1 : 0 < len) (hl2 : len ≤ cap) (hl3 : cap ≤ 9223372036854775807) (hl4 : ((len : Int) == 0) = false) (hl5 : 1 < len) (hl6 : ((len : Int) == 1) = false) (h1 : 161 ≤ b) (hh2 : b ≤ 254) (h5 : c < 161) : Calls Try.prog 9 #[.int .i64 k, .slice (some ⟨g, o, none⟩) len cap] w fun e w' => e = .returned (.agg (gZ 10 1 0 0)) ∧ w.grownBy w' none := by
  have h1' : ¬ (b : Int) < 128 := by omega
  have h2 : ((b : Int) == 142) = false := by simp; omega
  have h3' : decide ((b : Int) < 161) = false := by simp; omega
  have h4' : decide (254 < (b : Int)) = false := by simp; omega
  have h5' : decide ((c : Int) < 161) = true := by simp; omega
  go_enter Try.func9, Try.ntmps9
  go_upto_region 1 with (refine wpList_allocC _ rfl 28 rfl (gZ 0 0 0 0) (zeroG _) ?_; intro w1 rs1 hg1)
  have hG1 : Hid (w.grownBy w1 none) := Hid.mk' hg1
  have hB : Hid (w.heap.size ≤ w.heap.size) := Hid.mk' (Nat.le_refl _)
  obtain ⟨B, hBe⟩ : ∃ B, Hid (w.heap.size = B) := ⟨_, Hid.mk' rfl⟩
  have hB2 : Hid (w.heap.size ≤ B) := Hid.mk' (by rw [← hBe.out]; exact hB.out)
  rw [hBe.out] at rs1
  rw [hBe.out]
  clear hg1 hB hBe
  have y0 := hy0.out _ hG1.out; have y1 := hy1.out _ hG1.out
  go_wp2_with (first
    | (go_at_call 11; refine (hasRef k true hk _).mono ?_; rintro e w2 ⟨rfl, hg⟩; have rs2 := rs1.kept0 hg; have hG2 : Hid (w.grownBy w2 none) := Hid.mk' (gt hG1.out hg); clear y0 y1; have y0 := hy0.out _ hG2.out; have y1 := hy1.out _ hG2.out; clear rs1 hg)
    | (refine wpList_storeC _ rfl 28 _ _ rfl B (gZ 0 0 0 0) (gZ 10 1 0 0) infoG rfl (gC_one _ _ _ _ _ _ _ _ _) rfl rfl rs2 ?_; intro wz rsz hgz))
  refine bodyPost_ret (v := .agg (gZ 10 1 0 0)) (results_cell_row Try.results9 _ wz B 28 _ (0, 0) _ rfl rsz Try.underlying28 rfl infoG) rfl ⟨rfl, ?_⟩
  exact grownBy_new hG2.out hgz (fun k hk => by have h5 := Option.some.inj hk; have h6 := hB2.out; omega)
set_option maxRecDepth 100000 in
set_option maxHeartbeats 1000000 in
theorem g_illAb (w : World) (g o : Nat) (b : Nat) (hy0 : Hid (∀ wx, w.grownBy wx none → wx.cell? ⟨g, o, none⟩ = some (.int .u8 (b : Int)))) (c : Nat) (hy1 : Hid (∀ wx, w.grownBy wx none → wx.cell? ⟨g, o + 1, none⟩ = some (.int .u8 (c : Int)))) (len cap : Nat) (hl1 : 0 < len) (hl2 : len ≤ cap) (hl3 : cap ≤ 9223372036854775807) (hl4 : ((len : Int) == 0) = false) (hl5 : 1 < len) (hl6 : ((len : Int) == 1) = false) (h1 : b = 142) (h5 : 254 < c) : Calls Try.prog 9 #[.int .i64 81, .slice (some ⟨g, o, none⟩) len cap] w fun e w' => e = .returned (.agg (gZ 10 1 0 0)) ∧ w.grownBy w' none := by
  subst h1
  have h5' : decide ((c : Int) < 161) = false := by simp; omega
  have h6' : decide (254 < (c : Int)) = true := by simp; omega
  go_enter Try.func9, Try.ntmps9
  go_upto_region 1 with (refine wpList_allocC _ rfl 28 rfl (gZ 0 0 0 0) (zeroG _) ?_; intro w1 rs1 hg1)
  have hG1 : Hid (w.grownBy w1 none) := Hid.mk' hg1
  have hB : Hid (w.heap.size ≤ w.heap.size) := Hid.mk' (Nat.le_refl _)
  obtain ⟨B, hBe⟩ : ∃ B, Hid (w.heap.size = B) := ⟨_, Hid.mk' rfl⟩
  have hB2 : Hid (w.heap.size ≤ B) := Hid.mk' (by rw [← hBe.out]; exact hB.out)
  rw [hBe.out] at rs1
  rw [hBe.out]
  clear hg1 hB hBe
  have y0 := hy0.out _ hG1.out; have y1 := hy1.out _ hG1.out
  go_wp2_with (first
    | (go_at_call 11; refine (hasRef 81 true (Hid.mk' (by decide)) _).mono ?_; rintro e w2 ⟨rfl, hg⟩; have rs2 := rs1.kept0 hg; have hG2 : Hid (w.grownBy w2 none) := Hid.mk' (gt hG1.out hg); clear y0 y1; have y0 := hy0.out _ hG2.out; have y1 := hy1.out _ hG2.out; clear rs1 hg)
    | (refine wpList_storeC _ rfl 28 _ _ rfl B (gZ 0 0 0 0) (gZ 10 1 0 0) infoG rfl (gC_one _ _ _ _ _ _ _ _ _) rfl rfl rs2 ?_; intro wz rsz hgz))
  refine bodyPost_ret (v := .agg (gZ 10 1 0 0)) (results_cell_row Try.results9 _ wz B 28 _ (0, 0) _ rfl rsz Try.underlying28 rfl infoG) rfl ⟨rfl, ?_⟩
  exact grownBy_new hG2.out hgz (fun k hk => by have h5 := Option.some.inj hk; have h6 := hB2.out; omega)
set_option maxRecDepth 100000 in
set_option maxHeartbeats 1000000 in
theorem g_illCb (w : World) (k : Int) (hk : Hid (has k = true)) (g o : Nat) (b : Nat) (hy0 : Hid (∀ wx, w.grownBy wx none → wx.cell? ⟨g, o, none⟩ = some (.int .u8 (b : Int)))) (c : Nat) (hy1 : Hid (∀ wx, w.grownBy wx none → wx.cell? ⟨g, o + 1, none⟩ = some (.int .u8 (c : Int)))) (len cap : Nat) (hl1 : 0 < len) (hl2 : len ≤ cap) (hl3 : cap ≤ 9223372036854775807) (hl4 : ((len : Int) == 0) = false) (hl5 : 1 < len) (hl6 : ((len : Int) == 1) = false) (h1 : 161 ≤ b) (hh2 : b ≤ 254) (h5 : 254 < c) : Calls Try.prog 9 #[.int .i64 k, .slice (some ⟨g, o, none⟩) len cap] w fun e w' => e = .returned (.agg (gZ 10 1 0 0)) ∧ w.grownBy w' none := by
  have h1' : ¬ (b : Int) < 128 := by omega
  have h2 : ((b : Int) == 142) = false := by simp; omega
  have h3' : decide ((b : Int) < 161) = false := by simp; omega
  have h4' : decide (254 < (b : Int)) = false := by simp; omega
  have h5' : decide ((c : Int) < 161) = false := by simp; omega
  have h6' : decide (254 < (c : Int)) = true := by simp; omega
  go_enter Try.func9, Try.ntmps9
  go_upto_region 1 with (refine wpList_allocC _ rfl 28 rfl (gZ 0 0 0 0) (zeroG _) ?_; intro w1 rs1 hg1)
  have hG1 : Hid (w.grownBy w1 none) := Hid.mk' hg1
  have hB : Hid (w.heap.size ≤ w.heap.size) := Hid.mk' (Nat.le_refl _)
  obtain ⟨B, hBe⟩ : ∃ B, Hid (w.heap.size = B) := ⟨_, Hid.mk' rfl⟩
  have hB2 : Hid (w.heap.size ≤ B) := Hid.mk' (by rw [← hBe.out]; exact hB.out)
  rw [hBe.out] at rs1
  rw [hBe.out]
  clear hg1 hB hBe
  have y0 := hy0.out _ hG1.out; have y1 := hy1.out _ hG1.out
  go_wp2_with (first
    | (go_at_call 11; refine (hasRef k true hk _).mono ?_; rintro e w2 ⟨rfl, hg⟩; have rs2 := rs1.kept0 hg; have hG2 : Hid (w.grownBy w2 none) := Hid.mk' (gt hG1.out hg); clear y0 y1; have y0 := hy0.out _ hG2.out; have y1 := hy1.out _ hG2.out; clear rs1 hg)
    | (refine wpList_storeC _ rfl 28 _ _ rfl B (gZ 0 0 0 0) (gZ 10 1 0 0) infoG rfl (gC_one _ _ _ _ _ _ _ _ _) rfl rfl rs2 ?_; intro wz rsz hgz))
  refine bodyPost_ret (v := .agg (gZ 10 1 0 0)) (results_cell_row Try.results9 _ wz B 28 _ (0, 0) _ rfl rsz Try.underlying28 rfl infoG) rfl ⟨rfl, ?_⟩
  exact grownBy_new hG2.out hgz (fun k hk => by have h5 := Option.some.inj hk; have h6 := hB2.out; omega)
set_option maxRecDepth 100000 in
set_option maxHeartbeats 1000000 in
theorem g_illAc (w : World) (g o : Nat) (b : Nat) (hy0 : Hid (∀ wx, w.grownBy wx none → wx.cell? ⟨g, o, none⟩ = some (.int .u8 (b : Int)))) (c : Nat) (hy1 : Hid (∀ wx, w.grownBy wx none → wx.cell? ⟨g, o + 1, none⟩ = some (.int .u8 (c : Int)))) (len cap : Nat) (hl1 : 0 < len) (hl2 : len ≤ cap) (hl3 : cap ≤ 9223372036854775807) (hl4 : ((len : Int) == 0) = false) (hl5 : 1 < len) (hl6 : ((len : Int) == 1) = false) (h1 : b = 142) (h5 : 223 < c) (h6 : c ≤ 254) : Calls Try.prog 9 #[.int .i64 81, .slice (some ⟨g, o, none⟩) len cap] w fun e w' => e = .returned (.agg (gZ 10 1 0 0)) ∧ w.grownBy w' none := by
  subst h1
  have h5' : decide ((c : Int) < 161) = false := by simp; omega
  have h6' : decide (254 < (c : Int)) = false := by simp; omega
  have h7' : decide (223 < (c : Int)) = true := by simp; omega
  go_enter Try.func9, Try.ntmps9
  go_upto_region 1 with (refine wpList_allocC _ rfl 28 rfl (gZ 0 0 0 0) (zeroG _) ?_; intro w1 rs1 hg1)
  have hG1 : Hid (w.grownBy w1 none) := Hid.mk' hg1
  have hB : Hid (w.heap.size ≤ w.heap.size) := Hid.mk' (Nat.le_refl _)
  obtain ⟨B, hBe⟩ : ∃ B, Hid (w.heap.size = B) := ⟨_, Hid.mk' rfl⟩
  have hB2 : Hid (w.heap.size ≤ B) := Hid.mk' (by rw [← hBe.out]; exact hB.out)
  rw [hBe.out] at rs1
  rw [hBe.out]
  clear hg1 hB hBe
  have y0 := hy0.out _ hG1.out; have y1 := hy1.out _ hG1.out
  go_wp2_with (first
    | (go_at_call 11; refine (hasRef 81 true (Hid.mk' (by decide)) _).mono ?_; rintro e w2 ⟨rfl, hg⟩; have rs2 := rs1.kept0 hg; have hG2 : Hid (w.grownBy w2 none) := Hid.mk' (gt hG1.out hg); clear y0 y1; have y0 := hy0.out _ hG2.out; have y1 := hy1.out _ hG2.out; clear rs1 hg)
    | (refine wpList_storeC _ rfl 28 _ _ rfl B (gZ 0 0 0 0) (gZ 10 1 0 0) infoG rfl (gC_one _ _ _ _ _ _ _ _ _) rfl rfl rs2 ?_; intro wz rsz hgz))
  refine bodyPost_ret (v := .agg (gZ 10 1 0 0)) (results_cell_row Try.results9 _ wz B 28 _ (0, 0) _ rfl rsz Try.underlying28 rfl infoG) rfl ⟨rfl, ?_⟩
  exact grownBy_new hG2.out hgz (fun k hk => by have h5 := Option.some.inj hk; have h6 := hB2.out; omega)
set_option maxRecDepth 100000 in
set_option maxHeartbeats 1000000 in
theorem g_okA (w : World) (g o : Nat) (b : Nat) (hy0 : Hid (∀ wx, w.grownBy wx none → wx.cell? ⟨g, o, none⟩ = some (.int .u8 (b : Int)))) (c : Nat) (hy1 : Hid (∀ wx, w.grownBy wx none → wx.cell? ⟨g, o + 1, none⟩ = some (.int .u8 (c : Int)))) (len cap : Nat) (hl1 : 0 < len) (hl2 : len ≤ cap) (hl3 : cap ≤ 9223372036854775807) (hl4 : ((len : Int) == 0) = false) (hl5 : 1 < len) (hl6 : ((len : Int) == 1) = false) (h1 : b = 142) (h5 : 161 ≤ c) (h6 : c ≤ 223) (n : Nat) (hn : Hid (C14.haR c = some n)) : Calls Try.prog 9 #[.int .i64 81, .slice (some ⟨g, o, none⟩) len cap] w fun e w' => e = .returned (.agg (gZ 0 2 1 (n : Int))) ∧ w.grownBy w' none := by
  subst h1
  have h5' : decide ((c : Int) < 161) = false := by simp; omega
  have h6' : decide (254 < (c : Int)) = false := by simp; omega
  have h7' : decide (223 < (c : Int)) = false := by simp; omega
  go_enter Try.func9, Try.ntmps9
  go_upto_region 1 with (refine wpList_allocC _ rfl 28 rfl (gZ 0 0 0 0) (zeroG _) ?_; intro w1 rs1 hg1)
  have hG1 : Hid (w.grownBy w1 none) := Hid.mk' hg1
  have hB : Hid (w.heap.size ≤ w.heap.size) := Hid.mk' (Nat.le_refl _)
  obtain ⟨B, hBe⟩ : ∃ B, Hid (w.heap.size = B) := ⟨_, Hid.mk' rfl⟩
  have hB2 : Hid (w.heap.size ≤ B) := Hid.mk' (by rw [← hBe.out]; exact hB.out)
  rw [hBe.out] at rs1
  rw [hBe.out]
  clear hg1 hB hBe
  have y0 := hy0.out _ hG1.out; have y1 := hy1.out _ hG1.out
  go_wp2_with (first
    | (go_at_call 11; refine (hasRef 81 true (Hid.mk' (by decide)) _).mono ?_; rintro e w2 ⟨rfl, hg⟩; have rs2 := rs1.kept0 hg; have hG2 : Hid (w.grownBy w2 none) := Hid.mk' (gt hG1.out hg); clear y0 y1; have y0 := hy0.out _ hG2.out; have y1 := hy1.out _ hG2.out; clear rs1 hg)
    | (go_at_call 20; refine (halfRef c (by omega) n hn _).mono ?_; rintro e w3 ⟨rfl, hg⟩; have rs3 := rs2.kept0 hg; have hG3 : Hid (w.grownBy w3 none) := Hid.mk' (gt hG2.out hg); clear y0 y1; have y0 := hy0.out _ hG3.out; have y1 := hy1.out _ hG3.out; clear rs2 hg)
    | (refine wpList_storeC _ rfl 28 _ _ rfl B (gZ 0 0 0 0) (gZ 0 2 1 (n : Int)) infoG rfl (gC_one _ _ _ _ _ _ _ _ _) rfl rfl rs3 ?_; intro wz rsz hgz))
  refine bodyPost_ret (v := .agg (gZ 0 2 1 (n : Int))) (results_cell_row Try.results9 _ wz B 28 _ (0, 0) _ rfl rsz Try.underlying28 rfl infoG) rfl ⟨rfl, ?_⟩
  exact grownBy_new hG3.out hgz (fun k hk => by have h5 := Option.some.inj hk; have h6 := hB2.out; omega)
end Go.Proofs.Ytcbjkamjkaiofaa.C17
