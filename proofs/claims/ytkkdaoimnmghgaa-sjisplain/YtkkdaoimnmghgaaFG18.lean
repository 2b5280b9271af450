/- The document's Get of layer 18: walks, a way each. -/
import Derived.Test.YtkkdaoimnmghgaaFS18
namespace Go.Proofs.Ytkkdaoimnmghgaa.C18
open Go.ChangeShapes Go.WideShapes Go.ChangeAt Go.RowKit Go.Proofs.Ytkkdaoimnmghgaa.Mem Go.Proofs.Ytkkdaoimnmghgaa.Cb Go.Proofs.Ytkkdaoimnmghgaa.Sp
set_option linter.unusedVariables false
set_option linter.unusedSimpArgs false

theorem halfSome (c : Nat) (hc : c < 256) (n : Nat) (hn : Hid (C14.haR c = some n)) (w : World) : Calls Try.prog 22 #[.int .u8 (c : Int)] w fun e w' => e = .returned (.tuple #[.int .i32 (n : Int), .bool true]) ∧ w.grownBy w' none :=
  (C14.refHalf_any c hc w (some n) hn).mono (fun e w' h => ⟨h.1, by rw [h.2]; exact grownBy_refl _ _⟩)
theorem halfNone (c : Nat) (hc : c < 256) (hn : Hid (C14.haR c = none)) (w : World) : Calls Try.prog 22 #[.int .u8 (c : Int)] w fun e w' => e = .returned (.tuple #[.int .i32 0, .bool false]) ∧ w.grownBy w' none :=
  (C14.refHalf_any c hc w none hn).mono (fun e w' h => ⟨h.1, by rw [h.2]; exact grownBy_refl _ _⟩)
theorem halfByteSome (u : Int) (b : Nat) (hb : Hid (C14.hbR u = some b)) (w : World) : Calls Try.prog 26 #[.int .i32 u] w fun e w' => e = .returned (.tuple #[.int .u8 (b : Int), .bool true]) ∧ w.grownBy w' none :=
  (C14.refHalfByte_any u w (some b) hb).mono (fun e w' h => ⟨h.1, by rw [h.2]; exact grownBy_refl _ _⟩)
theorem halfByteNone (u : Int) (hb : Hid (C14.hbR u = none)) (w : World) : Calls Try.prog 26 #[.int .i32 u] w fun e w' => e = .returned (.tuple #[.int .u8 0, .bool false]) ∧ w.grownBy w' none :=
  (C14.refHalfByte_any u w none hb).mono (fun e w' h => ⟨h.1, by rw [h.2]; exact grownBy_refl _ _⟩)
theorem scSome (r c : Int) (hc : C14.I64 c) (n : Nat) (hR : Hid (C14.scP r c = some n)) (w : World) : Calls Try.prog 23 #[.int .i64 r, .int .i64 c] w fun e w' => e = .returned (.tuple #[.int .i32 (n : Int), .bool true]) ∧ w.grownBy w' none := C14.refScalar_any r c hc w (some n) hR
theorem scNone (r c : Int) (hc : C14.I64 c) (hR : Hid (C14.scP r c = none)) (w : World) : Calls Try.prog 23 #[.int .i64 r, .int .i64 c] w fun e w' => e = .returned (.tuple #[.int .i32 0, .bool false]) ∧ w.grownBy w' none := C14.refScalar_any r c hc w none hR
set_option maxRecDepth 100000 in
set_option maxHeartbeats 1000000 in
theorem g_more (w : World) (ao : Option Addr) (cap : Nat) : Calls Try.prog 10 #[.slice ao 0 cap] w fun e w' => e = .returned (.agg (gZ 1 0 0 0)) ∧ w.grownBy w' none := by
  go_enter Try.func10, Try.ntmps10
  go_upto_region 1 with (refine wpList_allocC _ rfl 28 rfl (gZ 0 0 0 0) (zeroG _) ?_; intro w1 rs1 hg1)
  have hG1 : Hid (w.grownBy w1 none) := Hid.mk' hg1
  have hB : Hid (w.heap.size ≤ w.heap.size) := Hid.mk' (Nat.le_refl _)
  obtain ⟨B, hBe⟩ : ∃ B, Hid (w.heap.size = B) := ⟨_, Hid.mk' rfl⟩
  have hB2 : Hid (w.heap.size ≤ B) := Hid.mk' (by rw [← hBe.out]; exact hB.out)
  rw [hBe.out] at rs1
  rw [hBe.out]
  clear hg1 hB hBe
  go_wp2_with (first
    | (refine wpList_storeC _ rfl 28 _ _ rfl B (gZ 0 0 0 0) (gZ 1 0 0 0) infoG rfl (gC_one _ _ _ _ _ _ _ _ _) rfl rfl rs1 ?_; intro wz rsz hgz))
  refine bodyPost_ret (v := .agg (gZ 1 0 0 0)) (results_cell_row Try.results10 _ wz B 28 _ (0, 0) _ rfl rsz Try.underlying28 rfl infoG) rfl ⟨rfl, ?_⟩
  exact grownBy_new hG1.out hgz (fun k hk => by have h5 := Option.some.inj hk; have h6 := hB2.out; omega)
set_option maxRecDepth 100000 in
set_option maxHeartbeats 1000000 in
theorem g_hnNA (w : World) (g o : Nat) (b : Nat) (hy0 : Hid (∀ wx, w.grownBy wx none → wx.cell? ⟨g, o, none⟩ = some (.int .u8 (b : Int)))) (len cap : Nat) (hl1 : 0 < len) (hl2 : len ≤ cap) (hl3 : cap ≤ 9223372036854775807) (hl4 : ((len : Int) == 0) = false) (h1 : b < 129) (hb : b < 256) (hn : Hid (C14.haR b = none)) : Calls Try.prog 10 #[.slice (some ⟨g, o, none⟩) len cap] w fun e w' => e = .returned (.agg (gZ 10 1 0 0)) ∧ w.grownBy w' none := by
  have f0 : decide ((b : Int) < 129) = true := by simp; omega
  have f1 : decide ((b : Int) < 224) = true := by simp; omega
  go_enter Try.func10, Try.ntmps10
  go_upto_region 1 with (refine wpList_allocC _ rfl 28 rfl (gZ 0 0 0 0) (zeroG _) ?_; intro w1 rs1 hg1)
  have hG1 : Hid (w.grownBy w1 none) := Hid.mk' hg1
  have hB : Hid (w.heap.size ≤ w.heap.size) := Hid.mk' (Nat.le_refl _)
  obtain ⟨B, hBe⟩ : ∃ B, Hid (w.heap.size = B) := ⟨_, Hid.mk' rfl⟩
  have hB2 : Hid (w.heap.size ≤ B) := Hid.mk' (by rw [← hBe.out]; exact hB.out)
  rw [hBe.out] at rs1
  rw [hBe.out]
  clear hg1 hB hBe
  have y0 := hy0.out _ hG1.out
  go_wp2_with (first
    | (go_at_call 22; refine (halfNone b hb hn _).mono ?_; rintro e w2 ⟨rfl, hg⟩; have rs2 := rs1.kept0 hg; have hG2 : Hid (w.grownBy w2 none) := Hid.mk' (gt hG1.out hg); clear y0; have y0 := hy0.out _ hG2.out; clear rs1 hg)
    | (refine wpList_storeC _ rfl 28 _ _ rfl B (gZ 0 0 0 0) (gZ 10 1 0 0) infoG rfl (gC_one _ _ _ _ _ _ _ _ _) rfl rfl rs2 ?_; intro wz rsz hgz))
  refine bodyPost_ret (v := .agg (gZ 10 1 0 0)) (results_cell_row Try.results10 _ wz B 28 _ (0, 0) _ rfl rsz Try.underlying28 rfl infoG) rfl ⟨rfl, ?_⟩
  exact grownBy_new hG2.out hgz (fun k hk => by have h5 := Option.some.inj hk; have h6 := hB2.out; omega)
set_option maxRecDepth 100000 in
set_option maxHeartbeats 1000000 in
theorem g_hsNA (w : World) (g o : Nat) (b : Nat) (hy0 : Hid (∀ wx, w.grownBy wx none → wx.cell? ⟨g, o, none⟩ = some (.int .u8 (b : Int)))) (len cap : Nat) (hl1 : 0 < len) (hl2 : len ≤ cap) (hl3 : cap ≤ 9223372036854775807) (hl4 : ((len : Int) == 0) = false) (h1 : b < 129) (hb : b < 256) (n : Nat) (hn : Hid (C14.haR b = some n)) : Calls Try.prog 10 #[.slice (some ⟨g, o, none⟩) len cap] w fun e w' => e = .returned (.agg (gZ 0 1 1 (n : Int))) ∧ w.grownBy w' none := by
  have f0 : decide ((b : Int) < 129) = true := by simp; omega
  have f1 : decide ((b : Int) < 224) = true := by simp; omega
  go_enter Try.func10, Try.ntmps10
  go_upto_region 1 with (refine wpList_allocC _ rfl 28 rfl (gZ 0 0 0 0) (zeroG _) ?_; intro w1 rs1 hg1)
  have hG1 : Hid (w.grownBy w1 none) := Hid.mk' hg1
  have hB : Hid (w.heap.size ≤ w.heap.size) := Hid.mk' (Nat.le_refl _)
  obtain ⟨B, hBe⟩ : ∃ B, Hid (w.heap.size = B) := ⟨_, Hid.mk' rfl⟩
  have hB2 : Hid (w.heap.size ≤ B) := Hid.mk' (by rw [← hBe.out]; exact hB.out)
  rw [hBe.out] at rs1
  rw [hBe.out]
  clear hg1 hB hBe
  have y0 := hy0.out _ hG1.out
  go_wp2_with (first
    | (go_at_call 22; refine (halfSome b hb n hn _).mono ?_; rintro e w2 ⟨rfl, hg⟩; have rs2 := rs1.kept0 hg; have hG2 : Hid (w.grownBy w2 none) := Hid.mk' (gt hG1.out hg); clear y0; have y0 := hy0.out _ hG2.out; clear rs1 hg)
    | (refine wpList_storeC _ rfl 28 _ _ rfl B (gZ 0 0 0 0) (gZ 0 1 1 (n : Int)) infoG rfl (gC_one _ _ _ _ _ _ _ _ _) rfl rfl rs2 ?_; intro wz rsz hgz))
  refine bodyPost_ret (v := .agg (gZ 0 1 1 (n : Int))) (results_cell_row Try.results10 _ wz B 28 _ (0, 0) _ rfl rsz Try.underlying28 rfl infoG) rfl ⟨rfl, ?_⟩
  exact grownBy_new hG2.out hgz (fun k hk => by have h5 := Option.some.inj hk; have h6 := hB2.out; omega)
set_option maxRecDepth 100000 in
set_option maxHeartbeats 1000000 in
theorem g_hnNB (w : World) (g o : Nat) (b : Nat) (hy0 : Hid (∀ wx, w.grownBy wx none → wx.cell? ⟨g, o, none⟩ = some (.int .u8 (b : Int)))) (len cap : Nat) (hl1 : 0 < len) (hl2 : len ≤ cap) (hl3 : cap ≤ 9223372036854775807) (hl4 : ((len : Int) == 0) = false) (h1 : 159 < b) (h2 : b < 224) (hb : b < 256) (hn : Hid (C14.haR b = none)) : Calls Try.prog 10 #[.slice (some ⟨g, o, none⟩) len cap] w fun e w' => e = .returned (.agg (gZ 10 1 0 0)) ∧ w.grownBy w' none := by
  have f0 : decide ((b : Int) < 129) = false := by simp; omega
  have f1 : decide (159 < (b : Int)) = true := by simp; omega
  have f2 : decide ((b : Int) < 224) = true := by simp; omega
  go_enter Try.func10, Try.ntmps10
  go_upto_region 1 with (refine wpList_allocC _ rfl 28 rfl (gZ 0 0 0 0) (zeroG _) ?_; intro w1 rs1 hg1)
  have hG1 : Hid (w.grownBy w1 none) := Hid.mk' hg1
  have hB : Hid (w.heap.size ≤ w.heap.size) := Hid.mk' (Nat.le_refl _)
  obtain ⟨B, hBe⟩ : ∃ B, Hid (w.heap.size = B) := ⟨_, Hid.mk' rfl⟩
  have hB2 : Hid (w.heap.size ≤ B) := Hid.mk' (by rw [← hBe.out]; exact hB.out)
  rw [hBe.out] at rs1
  rw [hBe.out]
  clear hg1 hB hBe
  have y0 := hy0.out _ hG1.out
  go_wp2_with (first
    | (go_at_call 22; refine (halfNone b hb hn _).mono ?_; rintro e w2 ⟨rfl, hg⟩; have rs2 := rs1.kept0 hg; have hG2 : Hid (w.grownBy w2 none) := Hid.mk' (gt hG1.out hg); clear y0; have y0 := hy0.out _ hG2.out; clear rs1 hg)
    | (refine wpList_storeC _ rfl 28 _ _ rfl B (gZ 0 0 0 0) (gZ 10 1 0 0) infoG rfl (gC_one _ _ _ _ _ _ _ _ _) rfl rfl rs2 ?_; intro wz rsz hgz))
  refine bodyPost_ret (v := .agg (gZ 10 1 0 0)) (results_cell_row Try.results10 _ wz B 28 _ (0, 0) _ rfl rsz Try.underlying28 rfl infoG) rfl ⟨rfl, ?_⟩
  exact grownBy_new hG2.out hgz (fun k hk => by have h5 := Option.some.inj hk; have h6 := hB2.out; omega)
set_option maxRecDepth 100000 in
set_option maxHeartbeats 1000000 in
theorem g_hsNB (w : World) (g o : Nat) (b : Nat) (hy0 : Hid (∀ wx, w.grownBy wx none → wx.cell? ⟨g, o, none⟩ = some (.int .u8 (b : Int)))) (len cap : Nat) (hl1 : 0 < len) (hl2 : len ≤ cap) (hl3 : cap ≤ 9223372036854775807) (hl4 : ((len : Int) == 0) = false) (h1 : 159 < b) (h2 : b < 224) (hb : b < 256) (n : Nat) (hn : Hid (C14.haR b = some n)) : Calls Try.prog 10 #[.slice (some ⟨g, o, none⟩) len cap] w fun e w' => e = .returned (.agg (gZ 0 1 1 (n : Int))) ∧ w.grownBy w' none := by
  have f0 : decide ((b : Int) < 129) = false := by simp; omega
  have f1 : decide (159 < (b : Int)) = true := by simp; omega
  have f2 : decide ((b : Int) < 224) = true := by simp; omega
  go_enter Try.func10, Try.ntmps10
  go_upto_region 1 with (refine wpList_allocC _ rfl 28 rfl (gZ 0 0 0 0) (zeroG _) ?_; intro w1 rs1 hg1)
  have hG1 : Hid (w.grownBy w1 none) := Hid.mk' hg1
  have hB : Hid (w.heap.size ≤ w.heap.size) := Hid.mk' (Nat.le_refl _)
  obtain ⟨B, hBe⟩ : ∃ B, Hid (w.heap.size = B) := ⟨_, Hid.mk' rfl⟩
  have hB2 : Hid (w.heap.size ≤ B) := Hid.mk' (by rw [← hBe.out]; exact hB.out)
  rw [hBe.out] at rs1
  rw [hBe.out]
  clear hg1 hB hBe
  have y0 := hy0.out _ hG1.out
  go_wp2_with (first
    | (go_at_call 22; refine (halfSome b hb n hn _).mono ?_; rintro e w2 ⟨rfl, hg⟩; have rs2 := rs1.kept0 hg; have hG2 : Hid (w.grownBy w2 none) := Hid.mk' (gt hG1.out hg); clear y0; have y0 := hy0.out _ hG2.out; clear rs1 hg)
    | (refine wpList_storeC _ rfl 28 _ _ rfl B (gZ 0 0 0 0) (gZ 0 1 1 (n : Int)) infoG rfl (gC_one _ _ _ _ _ _ _ _ _) rfl rfl rs2 ?_; intro wz rsz hgz))
  refine bodyPost_ret (v := .agg (gZ 0 1 1 (n : Int))) (results_cell_row Try.results10 _ wz B 28 _ (0, 0) _ rfl rsz Try.underlying28 rfl infoG) rfl ⟨rfl, ?_⟩
  exact grownBy_new hG2.out hgz (fun k hk => by have h5 := Option.some.inj hk; have h6 := hB2.out; omega)
set_option maxRecDepth 100000 in
set_option maxHeartbeats 1000000 in
theorem g_hnNC (w : World) (g o : Nat) (b : Nat) (hy0 : Hid (∀ wx, w.grownBy wx none → wx.cell? ⟨g, o, none⟩ = some (.int .u8 (b : Int)))) (len cap : Nat) (hl1 : 0 < len) (hl2 : len ≤ cap) (hl3 : cap ≤ 9223372036854775807) (hl4 : ((len : Int) == 0) = false) (h1 : 239 < b) (hb : b < 256) (hn : Hid (C14.haR b = none)) : Calls Try.prog 10 #[.slice (some ⟨g, o, none⟩) len cap] w fun e w' => e = .returned (.agg (gZ 10 1 0 0)) ∧ w.grownBy w' none := by
  have f0 : decide ((b : Int) < 129) = false := by simp; omega
  have f1 : decide (159 < (b : Int)) = true := by simp; omega
  have f2 : decide ((b : Int) < 224) = false := by simp; omega
  have f3 : decide (239 < (b : Int)) = true := by simp; omega
  go_enter Try.func10, Try.ntmps10
  go_upto_region 1 with (refine wpList_allocC _ rfl 28 rfl (gZ 0 0 0 0) (zeroG _) ?_; intro w1 rs1 hg1)
  have hG1 : Hid (w.grownBy w1 none) := Hid.mk' hg1
  have hB : Hid (w.heap.size ≤ w.heap.size) := Hid.mk' (Nat.le_refl _)
  obtain ⟨B, hBe⟩ : ∃ B, Hid (w.heap.size = B) := ⟨_, Hid.mk' rfl⟩
  have hB2 : Hid (w.heap.size ≤ B) := Hid.mk' (by rw [← hBe.out]; exact hB.out)
  rw [hBe.out] at rs1
  rw [hBe.out]
  clear hg1 hB hBe
  have y0 := hy0.out _ hG1.out
  go_wp2_with (first
    | (go_at_call 22; refine (halfNone b hb hn _).mono ?_; rintro e w2 ⟨rfl, hg⟩; have rs2 := rs1.kept0 hg; have hG2 : Hid (w.grownBy w2 none) := Hid.mk' (gt hG1.out hg); clear y0; have y0 := hy0.out _ hG2.out; clear rs1 hg)
    | (refine wpList_storeC _ rfl 28 _ _ rfl B (gZ 0 0 0 0) (gZ 10 1 0 0) infoG rfl (gC_one _ _ _ _ _ _ _ _ _) rfl rfl rs2 ?_; intro wz rsz hgz))
  refine bodyPost_ret (v := .agg (gZ 10 1 0 0)) (results_cell_row Try.results10 _ wz B 28 _ (0, 0) _ rfl rsz Try.underlying28 rfl infoG) rfl ⟨rfl, ?_⟩
  exact grownBy_new hG2.out hgz (fun k hk => by have h5 := Option.some.inj hk; have h6 := hB2.out; omega)
set_option maxRecDepth 100000 in
set_option maxHeartbeats 1000000 in
theorem g_oneLA (w : World) (g o : Nat) (b : Nat) (hy0 : Hid (∀ wx, w.grownBy wx none → wx.cell? ⟨g, o, none⟩ = some (.int .u8 (b : Int)))) (cap : Nat) (hl2 : 1 ≤ cap) (hl3 : cap ≤ 9223372036854775807) (h1 : 129 ≤ b) (h2 : b ≤ 159) : Calls Try.prog 10 #[.slice (some ⟨g, o, none⟩) 1 cap] w fun e w' => e = .returned (.agg (gZ 1 0 0 0)) ∧ w.grownBy w' none := by
  have f0 : decide ((b : Int) < 129) = false := by simp; omega
  have f1 : decide (159 < (b : Int)) = false := by simp; omega
  go_enter Try.func10, Try.ntmps10
  go_upto_region 1 with (refine wpList_allocC _ rfl 28 rfl (gZ 0 0 0 0) (zeroG _) ?_; intro w1 rs1 hg1)
  have hG1 : Hid (w.grownBy w1 none) := Hid.mk' hg1
  have hB : Hid (w.heap.size ≤ w.heap.size) := Hid.mk' (Nat.le_refl _)
  obtain ⟨B, hBe⟩ : ∃ B, Hid (w.heap.size = B) := ⟨_, Hid.mk' rfl⟩
  have hB2 : Hid (w.heap.size ≤ B) := Hid.mk' (by rw [← hBe.out]; exact hB.out)
  rw [hBe.out] at rs1
  rw [hBe.out]
  clear hg1 hB hBe
  have y0 := hy0.out _ hG1.out
  go_wp2_with (first
    | (refine wpList_storeC _ rfl 28 _ _ rfl B (gZ 0 0 0 0) (gZ 1 0 0 0) infoG rfl (gC_one _ _ _ _ _ _ _ _ _) rfl rfl rs1 ?_; intro wz rsz hgz))
  refine bodyPost_ret (v := .agg (gZ 1 0 0 0)) (results_cell_row Try.results10 _ wz B 28 _ (0, 0) _ rfl rsz Try.underlying28 rfl infoG) rfl ⟨rfl, ?_⟩
  exact grownBy_new hG1.out hgz (fun k hk => by have h5 := Option.some.inj hk; have h6 := hB2.out; omega)
set_option maxRecDepth 100000 in
set_option maxHeartbeats 1000000 in
theorem g_illLAa (w : World) (g o : Nat) (b : Nat) (hy0 : Hid (∀ wx, w.grownBy wx none → wx.cell? ⟨g, o, none⟩ = some (.int .u8 (b : Int)))) (c : Nat) (hy1 : Hid (∀ wx, w.grownBy wx none → wx.cell? ⟨g, o + 1, none⟩ = some (.int .u8 (c : Int)))) (len cap : Nat) (hl1 : 0 < len) (hl2 : len ≤ cap) (hl3 : cap ≤ 9223372036854775807) (hl4 : ((len : Int) == 0) = false) (hl5 : 1 < len) (hl6 : ((len : Int) == 1) = false) (h1 : 129 ≤ b) (h2 : b ≤ 159) (h5 : c < 64) : Calls Try.prog 10 #[.slice (some ⟨g, o, none⟩) len cap] w fun e w' => e = .returned (.agg (gZ 10 1 0 0)) ∧ w.grownBy w' none := by
  have f0 : decide ((b : Int) < 129) = false := by simp; omega
  have f1 : decide (159 < (b : Int)) = false := by simp; omega
  have f10 : decide ((c : Int) < 64) = true := by simp; omega
  go_enter Try.func10, Try.ntmps10
  go_upto_region 1 with (refine wpList_allocC _ rfl 28 rfl (gZ 0 0 0 0) (zeroG _) ?_; intro w1 rs1 hg1)
  have hG1 : Hid (w.grownBy w1 none) := Hid.mk' hg1
  have hB : Hid (w.heap.size ≤ w.heap.size) := Hid.mk' (Nat.le_refl _)
  obtain ⟨B, hBe⟩ : ∃ B, Hid (w.heap.size = B) := ⟨_, Hid.mk' rfl⟩
  have hB2 : Hid (w.heap.size ≤ B) := Hid.mk' (by rw [← hBe.out]; exact hB.out)
  rw [hBe.out] at rs1
  rw [hBe.out]
  clear hg1 hB hBe
  have y0 := hy0.out _ hG1.out; have y1 := hy1.out _ hG1.out
  go_wp2_with (first
    | (refine wpList_storeC _ rfl 28 _ _ rfl B (gZ 0 0 0 0) (gZ 10 1 0 0) infoG rfl (gC_one _ _ _ _ _ _ _ _ _) rfl rfl rs1 ?_; intro wz rsz hgz))
  refine bodyPost_ret (v := .agg (gZ 10 1 0 0)) (results_cell_row Try.results10 _ wz B 28 _ (0, 0) _ rfl rsz Try.underlying28 rfl infoG) rfl ⟨rfl, ?_⟩
  exact grownBy_new hG1.out hgz (fun k hk => by have h5 := Option.some.inj hk; have h6 := hB2.out; omega)
set_option maxRecDepth 100000 in
set_option maxHeartbeats 1000000 in
theorem g_illLAb (w : World) (g o : Nat) (b : Nat) (hy0 : Hid (∀ wx, w.grownBy wx none → wx.cell? ⟨g, o, none⟩ = some (.int .u8 (b : Int)))) (c : Nat) (hy1 : Hid (∀ wx, w.grownBy wx none → wx.cell? ⟨g, o + 1, none⟩ = some (.int .u8 (c : Int)))) (len cap : Nat) (hl1 : 0 < len) (hl2 : len ≤ cap) (hl3 : cap ≤ 9223372036854775807) (hl4 : ((len : Int) == 0) = false) (hl5 : 1 < len) (hl6 : ((len : Int) == 1) = false) (h1 : 129 ≤ b) (h2 : b ≤ 159) (h5 : c = 127) : Calls Try.prog 10 #[.slice (some ⟨g, o, none⟩) len cap] w fun e w' => e = .returned (.agg (gZ 10 1 0 0)) ∧ w.grownBy w' none := by
  have f0 : decide ((b : Int) < 129) = false := by simp; omega
  have f1 : decide (159 < (b : Int)) = false := by simp; omega
  subst h5
  go_enter Try.func10, Try.ntmps10
  go_upto_region 1 with (refine wpList_allocC _ rfl 28 rfl (gZ 0 0 0 0) (zeroG _) ?_; intro w1 rs1 hg1)
  have hG1 : Hid (w.grownBy w1 none) := Hid.mk' hg1
  have hB : Hid (w.heap.size ≤ w.heap.size) := Hid.mk' (Nat.le_refl _)
  obtain ⟨B, hBe⟩ : ∃ B, Hid (w.heap.size = B) := ⟨_, Hid.mk' rfl⟩
  have hB2 : Hid (w.heap.size ≤ B) := Hid.mk' (by rw [← hBe.out]; exact hB.out)
  rw [hBe.out] at rs1
  rw [hBe.out]
  clear hg1 hB hBe
  have y0 := hy0.out _ hG1.out; have y1 := hy1.out _ hG1.out
  go_wp2_with (first
    | (refine wpList_storeC _ rfl 28 _ _ rfl B (gZ 0 0 0 0) (gZ 10 1 0 0) infoG rfl (gC_one _ _ _ _ _ _ _ _ _) rfl rfl rs1 ?_; intro wz rsz hgz))
  refine bodyPost_ret (v := .agg (gZ 10 1 0 0)) (results_cell_row Try.results10 _ wz B 28 _ (0, 0) _ rfl rsz Try.underlying28 rfl infoG) rfl ⟨rfl, ?_⟩
  exact grownBy_new hG1.out hgz (fun k hk => by have h5 := Option.some.inj hk; have h6 := hB2.out; omega)
set_option maxRecDepth 100000 in
set_option maxHeartbeats 1000000 in
theorem g_illLAc (w : World) (g o : Nat) (b : Nat) (hy0 : Hid (∀ wx, w.grownBy wx none → wx.cell? ⟨g, o, none⟩ = some (.int .u8 (b : Int)))) (c : Nat) (hy1 : Hid (∀ wx, w.grownBy wx none → wx.cell? ⟨g, o + 1, none⟩ = some (.int .u8 (c : Int)))) (len cap : Nat) (hl1 : 0 < len) (hl2 : len ≤ cap) (hl3 : cap ≤ 9223372036854775807) (hl4 : ((len : Int) == 0) = false) (hl5 : 1 < len) (hl6 : ((len : Int) == 1) = false) (h1 : 129 ≤ b) (h2 : b ≤ 159) (h5 : 252 < c) : Calls Try.prog 10 #[.slice (some ⟨g, o, none⟩) len cap] w fun e w' => e = .returned (.agg (gZ 10 1 0 0)) ∧ w.grownBy w' none := by
  have f0 : decide ((b : Int) < 129) = false := by simp; omega
  have f1 : decide (159 < (b : Int)) = false := by simp; omega
  have f10 : decide ((c : Int) < 64) = false := by simp; omega
  have f11 : decide (252 < (c : Int)) = true := by simp; omega
  have h127 : ((c : Int) == 127) = false := by simp; omega
  go_enter Try.func10, Try.ntmps10
  go_upto_region 1 with (refine wpList_allocC _ rfl 28 rfl (gZ 0 0 0 0) (zeroG _) ?_; intro w1 rs1 hg1)
  have hG1 : Hid (w.grownBy w1 none) := Hid.mk' hg1
  have hB : Hid (w.heap.size ≤ w.heap.size) := Hid.mk' (Nat.le_refl _)
  obtain ⟨B, hBe⟩ : ∃ B, Hid (w.heap.size = B) := ⟨_, Hid.mk' rfl⟩
  have hB2 : Hid (w.heap.size ≤ B) := Hid.mk' (by rw [← hBe.out]; exact hB.out)
  rw [hBe.out] at rs1
  rw [hBe.out]
  clear hg1 hB hBe
  have y0 := hy0.out _ hG1.out; have y1 := hy1.out _ hG1.out
  go_wp2_with (first
    | (refine wpList_storeC _ rfl 28 _ _ rfl B (gZ 0 0 0 0) (gZ 10 1 0 0) infoG rfl (gC_one _ _ _ _ _ _ _ _ _) rfl rfl rs1 ?_; intro wz rsz hgz))
  refine bodyPost_ret (v := .agg (gZ 10 1 0 0)) (results_cell_row Try.results10 _ wz B 28 _ (0, 0) _ rfl rsz Try.underlying28 rfl infoG) rfl ⟨rfl, ?_⟩
  exact grownBy_new hG1.out hgz (fun k hk => by have h5 := Option.some.inj hk; have h6 := hB2.out; omega)
set_option maxRecDepth 100000 in
set_option maxHeartbeats 1000000 in
theorem g_pnLA (w : World) (g o : Nat) (b : Nat) (hy0 : Hid (∀ wx, w.grownBy wx none → wx.cell? ⟨g, o, none⟩ = some (.int .u8 (b : Int)))) (c : Nat) (hy1 : Hid (∀ wx, w.grownBy wx none → wx.cell? ⟨g, o + 1, none⟩ = some (.int .u8 (c : Int)))) (len cap : Nat) (hl1 : 0 < len) (hl2 : len ≤ cap) (hl3 : cap ≤ 9223372036854775807) (hl4 : ((len : Int) == 0) = false) (hl5 : 1 < len) (hl6 : ((len : Int) == 1) = false) (h1 : 129 ≤ b) (h2 : b ≤ 159) (h5 : 64 ≤ c) (h6 : c ≤ 252) (h7 : c ≠ 127) (hb : b < 256) (A D : Nat) (hD : D ≤ 94) (hU : Hid (upT b c = (A, D, true))) (hR : Hid (C14.scP (A : Int) (D : Int) = none)) : Calls Try.prog 10 #[.slice (some ⟨g, o, none⟩) len cap] w fun e w' => e = .returned (.agg (gZ 10 2 0 0)) ∧ w.grownBy w' none := by
  have f0 : decide ((b : Int) < 129) = false := by simp; omega
  have f1 : decide (159 < (b : Int)) = false := by simp; omega
  have f10 : decide ((c : Int) < 64) = false := by simp; omega
  have f11 : decide (252 < (c : Int)) = false := by simp; omega
  have h127 : ((c : Int) == 127) = false := by simp; omega
  go_enter Try.func10, Try.ntmps10
  go_upto_region 1 with (refine wpList_allocC _ rfl 28 rfl (gZ 0 0 0 0) (zeroG _) ?_; intro w1 rs1 hg1)
  have hG1 : Hid (w.grownBy w1 none) := Hid.mk' hg1
  have hB : Hid (w.heap.size ≤ w.heap.size) := Hid.mk' (Nat.le_refl _)
  obtain ⟨B, hBe⟩ : ∃ B, Hid (w.heap.size = B) := ⟨_, Hid.mk' rfl⟩
  have hB2 : Hid (w.heap.size ≤ B) := Hid.mk' (by rw [← hBe.out]; exact hB.out)
  rw [hBe.out] at rs1
  rw [hBe.out]
  clear hg1 hB hBe
  have y0 := hy0.out _ hG1.out; have y1 := hy1.out _ hG1.out
  go_wp2_with (first
    | (go_at_call 16; refine (unpackRef b c hb (by omega) A D true hU _).mono ?_; rintro e w2 ⟨rfl, hg⟩; have rs2 := rs1.kept0 hg; have hG2 : Hid (w.grownBy w2 none) := Hid.mk' (gt hG1.out hg); clear y0 y1; have y0 := hy0.out _ hG2.out; have y1 := hy1.out _ hG2.out; clear rs1 hg)
    | (go_at_call 23; refine (scNone (A : Int) (D : Int) (by unfold C14.I64; omega) hR _).mono ?_; rintro e w3 ⟨rfl, hg⟩; have rs3 := rs2.kept0 hg; have hG3 : Hid (w.grownBy w3 none) := Hid.mk' (gt hG2.out hg); clear y0 y1; have y0 := hy0.out _ hG3.out; have y1 := hy1.out _ hG3.out; clear rs2 hg)
    | (refine wpList_storeC _ rfl 28 _ _ rfl B (gZ 0 0 0 0) (gZ 10 2 0 0) infoG rfl (gC_one _ _ _ _ _ _ _ _ _) rfl rfl rs3 ?_; intro wz rsz hgz))
  refine bodyPost_ret (v := .agg (gZ 10 2 0 0)) (results_cell_row Try.results10 _ wz B 28 _ (0, 0) _ rfl rsz Try.underlying28 rfl infoG) rfl ⟨rfl, ?_⟩
  exact grownBy_new hG3.out hgz (fun k hk => by have h5 := Option.some.inj hk; have h6 := hB2.out; omega)
set_option maxRecDepth 100000 in
set_option maxHeartbeats 1000000 in
theorem g_psLA (w : World) (g o : Nat) (b : Nat) (hy0 : Hid (∀ wx, w.grownBy wx none → wx.cell? ⟨g, o, none⟩ = some (.int .u8 (b : Int)))) (c : Nat) (hy1 : Hid (∀ wx, w.grownBy wx none → wx.cell? ⟨g, o + 1, none⟩ = some (.int .u8 (c : Int)))) (len cap : Nat) (hl1 : 0 < len) (hl2 : len ≤ cap) (hl3 : cap ≤ 9223372036854775807) (hl4 : ((len : Int) == 0) = false) (hl5 : 1 < len) (hl6 : ((len : Int) == 1) = false) (h1 : 129 ≤ b) (h2 : b ≤ 159) (h5 : 64 ≤ c) (h6 : c ≤ 252) (h7 : c ≠ 127) (hb : b < 256) (A D : Nat) (hD : D ≤ 94) (hU : Hid (upT b c = (A, D, true))) (n : Nat) (hR : Hid (C14.scP (A : Int) (D : Int) = some n)) : Calls Try.prog 10 #[.slice (some ⟨g, o, none⟩) len cap] w fun e w' => e = .returned (.agg (gZ 0 2 1 (n : Int))) ∧ w.grownBy w' none := by
  have f0 : decide ((b : Int) < 129) = false := by simp; omega
  have f1 : decide (159 < (b : Int)) = false := by simp; omega
  have f10 : decide ((c : Int) < 64) = false := by simp; omega
  have f11 : decide (252 < (c : Int)) = false := by simp; omega
  have h127 : ((c : Int) == 127) = false := by simp; omega
  go_enter Try.func10, Try.ntmps10
  go_upto_region 1 with (refine wpList_allocC _ rfl 28 rfl (gZ 0 0 0 0) (zeroG _) ?_; intro w1 rs1 hg1)
  have hG1 : Hid (w.grownBy w1 none) := Hid.mk' hg1
  have hB : Hid (w.heap.size ≤ w.heap.size) := Hid.mk' (Nat.le_refl _)
  obtain ⟨B, hBe⟩ : ∃ B, Hid (w.heap.size = B) := ⟨_, Hid.mk' rfl⟩
  have hB2 : Hid (w.heap.size ≤ B) := Hid.mk' (by rw [← hBe.out]; exact hB.out)
  rw [hBe.out] at rs1
  rw [hBe.out]
  clear hg1 hB hBe
  have y0 := hy0.out _ hG1.out; have y1 := hy1.out _ hG1.out
  go_wp2_with (first
    | (go_at_call 16; refine (unpackRef b c hb (by omega) A D true hU _).mono ?_; rintro e w2 ⟨rfl, hg⟩; have rs2 := rs1.kept0 hg; have hG2 : Hid (w.grownBy w2 none) := Hid.mk' (gt hG1.out hg); clear y0 y1; have y0 := hy0.out _ hG2.out; have y1 := hy1.out _ hG2.out; clear rs1 hg)
    | (go_at_call 23; refine (scSome (A : Int) (D : Int) (by unfold C14.I64; omega) n hR _).mono ?_; rintro e w3 ⟨rfl, hg⟩; have rs3 := rs2.kept0 hg; have hG3 : Hid (w.grownBy w3 none) := Hid.mk' (gt hG2.out hg); clear y0 y1; have y0 := hy0.out _ hG3.out; have y1 := hy1.out _ hG3.out; clear rs2 hg)
    | (refine wpList_storeC _ rfl 28 _ _ rfl B (gZ 0 0 0 0) (gZ 0 2 1 (n : Int)) infoG rfl (gC_one _ _ _ _ _ _ _ _ _) rfl rfl rs3 ?_; intro wz rsz hgz))
  refine bodyPost_ret (v := .agg (gZ 0 2 1 (n : Int))) (results_cell_row Try.results10 _ wz B 28 _ (0, 0) _ rfl rsz Try.underlying28 rfl infoG) rfl ⟨rfl, ?_⟩
  exact grownBy_new hG3.out hgz (fun k hk => by have h5 := Option.some.inj hk; have h6 := hB2.out; omega)
set_option maxRecDepth 100000 in
set_option maxHeartbeats 1000000 in
theorem g_oneLB (w : World) (g o : Nat) (b : Nat) (hy0 : Hid (∀ wx, w.grownBy wx none → wx.cell? ⟨g, o, none⟩ = some (.int .u8 (b : Int)))) (cap : Nat) (hl2 : 1 ≤ cap) (hl3 : cap ≤ 9223372036854775807) (h1 : 224 ≤ b) (h2 : b ≤ 239) : Calls Try.prog 10 #[.slice (some ⟨g, o, none⟩) 1 cap] w fun e w' => e = .returned (.agg (gZ 1 0 0 0)) ∧ w.grownBy w' none := by
  have f0 : decide ((b : Int) < 129) = false := by simp; omega
  have f1 : decide (159 < (b : Int)) = true := by simp; omega
  have f2 : decide ((b : Int) < 224) = false := by simp; omega
  have f3 : decide (239 < (b : Int)) = false := by simp; omega
  go_enter Try.func10, Try.ntmps10
  go_upto_region 1 with (refine wpList_allocC _ rfl 28 rfl (gZ 0 0 0 0) (zeroG _) ?_; intro w1 rs1 hg1)
  have hG1 : Hid (w.grownBy w1 none) := Hid.mk' hg1
  have hB : Hid (w.heap.size ≤ w.heap.size) := Hid.mk' (Nat.le_refl _)
  obtain ⟨B, hBe⟩ : ∃ B, Hid (w.heap.size = B) := ⟨_, Hid.mk' rfl⟩
  have hB2 : Hid (w.heap.size ≤ B) := Hid.mk' (by rw [← hBe.out]; exact hB.out)
  rw [hBe.out] at rs1
  rw [hBe.out]
  clear hg1 hB hBe
  have y0 := hy0.out _ hG1.out
  go_wp2_with (first
    | (refine wpList_storeC _ rfl 28 _ _ rfl B (gZ 0 0 0 0) (gZ 1 0 0 0) infoG rfl (gC_one _ _ _ _ _ _ _ _ _) rfl rfl rs1 ?_; intro wz rsz hgz))
  refine bodyPost_ret (v := .agg (gZ 1 0 0 0)) (results_cell_row Try.results10 _ wz B 28 _ (0, 0) _ rfl rsz Try.underlying28 rfl infoG) rfl ⟨rfl, ?_⟩
  exact grownBy_new hG1.out hgz (fun k hk => by have h5 := Option.some.inj hk; have h6 := hB2.out; omega)
set_option maxRecDepth 100000 in
set_option maxHeartbeats 1000000 in
theorem g_illLBa (w : World) (g o : Nat) (b : Nat) (hy0 : Hid (∀ wx, w.grownBy wx none → wx.cell? ⟨g, o, none⟩ = some (.int .u8 (b : Int)))) (c : Nat) (hy1 : Hid (∀ wx, w.grownBy wx none → wx.cell? ⟨g, o + 1, none⟩ = some (.int .u8 (c : Int)))) (len cap : Nat) (hl1 : 0 < len) (hl2 : len ≤ cap) (hl3 : cap ≤ 9223372036854775807) (hl4 : ((len : Int) == 0) = false) (hl5 : 1 < len) (hl6 : ((len : Int) == 1) = false) (h1 : 224 ≤ b) (h2 : b ≤ 239) (h5 : c < 64) : Calls Try.prog 10 #[.slice (some ⟨g, o, none⟩) len cap] w fun e w' => e = .returned (.agg (gZ 10 1 0 0)) ∧ w.grownBy w' none := by
  have f0 : decide ((b : Int) < 129) = false := by simp; omega
  have f1 : decide (159 < (b : Int)) = true := by simp; omega
  have f2 : decide ((b : Int) < 224) = false := by simp; omega
  have f3 : decide (239 < (b : Int)) = false := by simp; omega
  have f10 : decide ((c : Int) < 64) = true := by simp; omega
  go_enter Try.func10, Try.ntmps10
  go_upto_region 1 with (refine wpList_allocC _ rfl 28 rfl (gZ 0 0 0 0) (zeroG _) ?_; intro w1 rs1 hg1)
  have hG1 : Hid (w.grownBy w1 none) := Hid.mk' hg1
  have hB : Hid (w.heap.size ≤ w.heap.size) := Hid.mk' (Nat.le_refl _)
  obtain ⟨B, hBe⟩ : ∃ B, Hid (w.heap.size = B) := ⟨_, Hid.mk' rfl⟩
  have hB2 : Hid (w.heap.size ≤ B) := Hid.mk' (by rw [← hBe.out]; exact hB.out)
  rw [hBe.out] at rs1
  rw [hBe.out]
  clear hg1 hB hBe
  have y0 := hy0.out _ hG1.out; have y1 := hy1.out _ hG1.out
  go_wp2_with (first
    | (refine wpList_storeC _ rfl 28 _ _ rfl B (gZ 0 0 0 0) (gZ 10 1 0 0) infoG rfl (gC_one _ _ _ _ _ _ _ _ _) rfl rfl rs1 ?_; intro wz rsz hgz))
  refine bodyPost_ret (v := .agg (gZ 10 1 0 0)) (results_cell_row Try.results10 _ wz B 28 _ (0, 0) _ rfl rsz Try.underlying28 rfl infoG) rfl ⟨rfl, ?_⟩
  exact grownBy_new hG1.out hgz (fun k hk => by have h5 := Option.some.inj hk; have h6 := hB2.out; omega)
set_option maxRecDepth 100000 in
set_option maxHeartbeats 1000000 in
theorem g_illLBb (w : World) (g o : Nat) (b : Nat) (hy0 : Hid (∀ wx, w.grownBy wx none → wx.cell? ⟨g, o, none⟩ = some (.int .u8 (b : Int)))) (c : Nat) (hy1 : Hid (∀ wx, w.grownBy wx none → wx.cell? ⟨g, o + 1, none⟩ = some (.int .u8 (c : Int)))) (len cap : Nat) (hl1 : 0 < len) (hl2 : len ≤ cap) (hl3 : cap ≤ 9223372036854775807) (hl4 : ((len : Int) == 0) = false) (hl5 : 1 < len) (hl6 : ((len : Int) == 1) = false) (h1 : 224 ≤ b) (h2 : b ≤ 239) (h5 : c = 127) : Calls Try.prog 10 #[.slice (some ⟨g, o, none⟩) len cap] w fun e w' => e = .returned (.agg (gZ 10 1 0 0)) ∧ w.grownBy w' none := by
  have f0 : decide ((b : Int) < 129) = false := by simp; omega
  have f1 : decide (159 < (b : Int)) = true := by simp; omega
  have f2 : decide ((b : Int) < 224) = false := by simp; omega
  have f3 : decide (239 < (b : Int)) = false := by simp; omega
  subst h5
  go_enter Try.func10, Try.ntmps10
  go_upto_region 1 with (refine wpList_allocC _ rfl 28 rfl (gZ 0 0 0 0) (zeroG _) ?_; intro w1 rs1 hg1)
  have hG1 : Hid (w.grownBy w1 none) := Hid.mk' hg1
  have hB : Hid (w.heap.size ≤ w.heap.size) := Hid.mk' (Nat.le_refl _)
  obtain ⟨B, hBe⟩ : ∃ B, Hid (w.heap.size = B) := ⟨_, Hid.mk' rfl⟩
  have hB2 : Hid (w.heap.size ≤ B) := Hid.mk' (by rw [← hBe.out]; exact hB.out)
  rw [hBe.out] at rs1
  rw [hBe.out]
  clear hg1 hB hBe
  have y0 := hy0.out _ hG1.out; have y1 := hy1.out _ hG1.out
  go_wp2_with (first
    | (refine wpList_storeC _ rfl 28 _ _ rfl B (gZ 0 0 0 0) (gZ 10 1 0 0) infoG rfl (gC_one _ _ _ _ _ _ _ _ _) rfl rfl rs1 ?_; intro wz rsz hgz))
  refine bodyPost_ret (v := .agg (gZ 10 1 0 0)) (results_cell_row Try.results10 _ wz B 28 _ (0, 0) _ rfl rsz Try.underlying28 rfl infoG) rfl ⟨rfl, ?_⟩
  exact grownBy_new hG1.out hgz (fun k hk => by have h5 := Option.some.inj hk; have h6 := hB2.out; omega)
set_option maxRecDepth 100000 in
set_option maxHeartbeats 1000000 in
theorem g_illLBc (w : World) (g o : Nat) (b : Nat) (hy0 : Hid (∀ wx, w.grownBy wx none → wx.cell? ⟨g, o, none⟩ = some (.int .u8 (b : Int)))) (c : Nat) (hy1 : Hid (∀ wx, w.grownBy wx none → wx.cell? ⟨g, o + 1, none⟩ = some (.int .u8 (c : Int)))) (len cap : Nat) (hl1 : 0 < len) (hl2 : len ≤ cap) (hl3 : cap ≤ 9223372036854775807) (hl4 : ((len : Int) == 0) = false) (hl5 : 1 < len) (hl6 : ((len : Int) == 1) = false) (h1 : 224 ≤ b) (h2 : b ≤ 239) (h5 : 252 < c) : Calls Try.prog 10 #[.slice (some ⟨g, o, none⟩) len cap] w fun e w' => e = .returned (.agg (gZ 10 1 0 0)) ∧ w.grownBy w' none := by
  have f0 : decide ((b : Int) < 129) = false := by simp; omega
  have f1 : decide (159 < (b : Int)) = true := by simp; omega
  have f2 : decide ((b : Int) < 224) = false := by simp; omega
  have f3 : decide (239 < (b : Int)) = false := by simp; omega
  have f10 : decide ((c : Int) < 64) = false := by simp; omega
  have f11 : decide (252 < (c : Int)) = true := by simp; omega
  have h127 : ((c : Int) == 127) = false := by simp; omega
  go_enter Try.func10, Try.ntmps10
  go_upto_region 1 with (refine wpList_allocC _ rfl 28 rfl (gZ 0 0 0 0) (zeroG _) ?_; intro w1 rs1 hg1)
  have hG1 : Hid (w.grownBy w1 none) := Hid.mk' hg1
  have hB : Hid (w.heap.size ≤ w.heap.size) := Hid.mk' (Nat.le_refl _)
  obtain ⟨B, hBe⟩ : ∃ B, Hid (w.heap.size = B) := ⟨_, Hid.mk' rfl⟩
  have hB2 : Hid (w.heap.size ≤ B) := Hid.mk' (by rw [← hBe.out]; exact hB.out)
  rw [hBe.out] at rs1
  rw [hBe.out]
  clear hg1 hB hBe
  have y0 := hy0.out _ hG1.out; have y1 := hy1.out _ hG1.out
  go_wp2_with (first
    | (refine wpList_storeC _ rfl 28 _ _ rfl B (gZ 0 0 0 0) (gZ 10 1 0 0) infoG rfl (gC_one _ _ _ _ _ _ _ _ _) rfl rfl rs1 ?_; intro wz rsz hgz))
  refine bodyPost_ret (v := .agg (gZ 10 1 0 0)) (results_cell_row Try.results10 _ wz B 28 _ (0, 0) _ rfl rsz Try.underlying28 rfl infoG) rfl ⟨rfl, ?_⟩
  exact grownBy_new hG1.out hgz (fun k hk => by have h5 := Option.some.inj hk; have h6 := hB2.out; omega)
set_option maxRecDepth 100000 in
set_option maxHeartbeats 1000000 in
theorem g_pnLB (w : World) (g o : Nat) (b : Nat) (hy0 : Hid (∀ wx, w.grownBy wx none → wx.cell? ⟨g, o, none⟩ = some (.int .u8 (b : Int)))) (c : Nat) (hy1 : Hid (∀ wx, w.grownBy wx none → wx.cell? ⟨g, o + 1, none⟩ = some (.int .u8 (c : Int)))) (len cap : Nat) (hl1 : 0 < len) (hl2 : len ≤ cap) (hl3 : cap ≤ 9223372036854775807) (hl4 : ((len : Int) == 0) = false) (hl5 : 1 < len) (hl6 : ((len : Int) == 1) = false) (h1 : 224 ≤ b) (h2 : b ≤ 239) (h5 : 64 ≤ c) (h6 : c ≤ 252) (h7 : c ≠ 127) (hb : b < 256) (A D : Nat) (hD : D ≤ 94) (hU : Hid (upT b c = (A, D, true))) (hR : Hid (C14.scP (A : Int) (D : Int) = none)) : Calls Try.prog 10 #[.slice (some ⟨g, o, none⟩) len cap] w fun e w' => e = .returned (.agg (gZ 10 2 0 0)) ∧ w.grownBy w' none := by
  have f0 : decide ((b : Int) < 129) = false := by simp; omega
  have f1 : decide (159 < (b : Int)) = true := by simp; omega
  have f2 : decide ((b : Int) < 224) = false := by simp; omega
  have f3 : decide (239 < (b : Int)) = false := by simp; omega
  have f10 : decide ((c : Int) < 64) = false := by simp; omega
  have f11 : decide (252 < (c : Int)) = false := by simp; omega
  have h127 : ((c : Int) == 127) = false := by simp; omega
  go_enter Try.func10, Try.ntmps10
  go_upto_region 1 with (refine wpList_allocC _ rfl 28 rfl (gZ 0 0 0 0) (zeroG _) ?_; intro w1 rs1 hg1)
  have hG1 : Hid (w.grownBy w1 none) := Hid.mk' hg1
  have hB : Hid (w.heap.size ≤ w.heap.size) := Hid.mk' (Nat.le_refl _)
  obtain ⟨B, hBe⟩ : ∃ B, Hid (w.heap.size = B) := ⟨_, Hid.mk' rfl⟩
  have hB2 : Hid (w.heap.size ≤ B) := Hid.mk' (by rw [← hBe.out]; exact hB.out)
  rw [hBe.out] at rs1
  rw [hBe.out]
  clear hg1 hB hBe
  have y0 := hy0.out _ hG1.out; have y1 := hy1.out _ hG1.out
  go_wp2_with (first
    | (go_at_call 16; refine (unpackRef b c hb (by omega) A D true hU _).mono ?_; rintro e w2 ⟨rfl, hg⟩; have rs2 := rs1.kept0 hg; have hG2 : Hid (w.grownBy w2 none) := Hid.mk' (gt hG1.out hg); clear y0 y1; have y0 := hy0.out _ hG2.out; have y1 := hy1.out _ hG2.out; clear rs1 hg)
    | (go_at_call 23; refine (scNone (A : Int) (D : Int) (by unfold C14.I64; omega) hR _).mono ?_; rintro e w3 ⟨rfl, hg⟩; have rs3 := rs2.kept0 hg; have hG3 : Hid (w.grownBy w3 none) := Hid.mk' (gt hG2.out hg); clear y0 y1; have y0 := hy0.out _ hG3.out; have y1 := hy1.out _ hG3.out; clear rs2 hg)
    | (refine wpList_storeC _ rfl 28 _ _ rfl B (gZ 0 0 0 0) (gZ 10 2 0 0) infoG rfl (gC_one _ _ _ _ _ _ _ _ _) rfl rfl rs3 ?_; intro wz rsz hgz))
  refine bodyPost_ret (v := .agg (gZ 10 2 0 0)) (results_cell_row Try.results10 _ wz B 28 _ (0, 0) _ rfl rsz Try.underlying28 rfl infoG) rfl ⟨rfl, ?_⟩
  exact grownBy_new hG3.out hgz (fun k hk => by have h5 := Option.some.inj hk; have h6 := hB2.out; omega)
set_option maxRecDepth 100000 in
set_option maxHeartbeats 1000000 in
theorem g_psLB (w : World) (g o : Nat) (b : Nat) (hy0 : Hid (∀ wx, w.grownBy wx none → wx.cell? ⟨g, o, none⟩ = some (.int .u8 (b : Int)))) (c : Nat) (hy1 : Hid (∀ wx, w.grownBy wx none → wx.cell? ⟨g, o + 1, none⟩ = some (.int .u8 (c : Int)))) (len cap : Nat) (hl1 : 0 < len) (hl2 : len ≤ cap) (hl3 : cap ≤ 9223372036854775807) (hl4 : ((len : Int) == 0) = false) (hl5 : 1 < len) (hl6 : ((len : Int) == 1) = false) (h1 : 224 ≤ b) (h2 : b ≤ 239) (h5 : 64 ≤ c) (h6 : c ≤ 252) (h7 : c ≠ 127) (hb : b < 256) (A D : Nat) (hD : D ≤ 94) (hU : Hid (upT b c = (A, D, true))) (n : Nat) (hR : Hid (C14.scP (A : Int) (D : Int) = some n)) : Calls Try.prog 10 #[.slice (some ⟨g, o, none⟩) len cap] w fun e w' => e = .returned (.agg (gZ 0 2 1 (n : Int))) ∧ w.grownBy w' none := by
  have f0 : decide ((b : Int) < 129) = false := by simp; omega
  have f1 : decide (159 < (b : Int)) = true := by simp; omega
  have f2 : decide ((b : Int) < 224) = false := by simp; omega
  have f3 : decide (239 < (b : Int)) = false := by simp; omega
  have f10 : decide ((c : Int) < 64) = false := by simp; omega
  have f11 : decide (252 < (c : Int)) = false := by simp; omega
  have h127 : ((c : Int) == 127) = false := by simp; omega
  go_enter Try.func10, Try.ntmps10
  go_upto_region 1 with (refine wpList_allocC _ rfl 28 rfl (gZ 0 0 0 0) (zeroG _) ?_; intro w1 rs1 hg1)
  have hG1 : Hid (w.grownBy w1 none) := Hid.mk' hg1
  have hB : Hid (w.heap.size ≤ w.heap.size) := Hid.mk' (Nat.le_refl _)
  obtain ⟨B, hBe⟩ : ∃ B, Hid (w.heap.size = B) := ⟨_, Hid.mk' rfl⟩
  have hB2 : Hid (w.heap.size ≤ B) := Hid.mk' (by rw [← hBe.out]; exact hB.out)
  rw [hBe.out] at rs1
  rw [hBe.out]
  clear hg1 hB hBe
  have y0 := hy0.out _ hG1.out; have y1 := hy1.out _ hG1.out
  go_wp2_with (first
    | (go_at_call 16; refine (unpackRef b c hb (by omega) A D true hU _).mono ?_; rintro e w2 ⟨rfl, hg⟩; have rs2 := rs1.kept0 hg; have hG2 : Hid (w.grownBy w2 none) := Hid.mk' (gt hG1.out hg); clear y0 y1; have y0 := hy0.out _ hG2.out; have y1 := hy1.out _ hG2.out; clear rs1 hg)
    | (go_at_call 23; refine (scSome (A : Int) (D : Int) (by unfold C14.I64; omega) n hR _).mono ?_; rintro e w3 ⟨rfl, hg⟩; have rs3 := rs2.kept0 hg; have hG3 : Hid (w.grownBy w3 none) := Hid.mk' (gt hG2.out hg); clear y0 y1; have y0 := hy0.out _ hG3.out; have y1 := hy1.out _ hG3.out; clear rs2 hg)
    | (refine wpList_storeC _ rfl 28 _ _ rfl B (gZ 0 0 0 0) (gZ 0 2 1 (n : Int)) infoG rfl (gC_one _ _ _ _ _ _ _ _ _) rfl rfl rs3 ?_; intro wz rsz hgz))
  refine bodyPost_ret (v := .agg (gZ 0 2 1 (n : Int))) (results_cell_row Try.results10 _ wz B 28 _ (0, 0) _ rfl rsz Try.underlying28 rfl infoG) rfl ⟨rfl, ?_⟩
  exact grownBy_new hG3.out hgz (fun k hk => by have h5 := Option.some.inj hk; have h6 := hB2.out; omega)
end Go.Proofs.Ytkkdaoimnmghgaa.C18
