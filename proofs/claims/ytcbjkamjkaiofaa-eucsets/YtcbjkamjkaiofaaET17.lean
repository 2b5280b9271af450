/- The document's Set of layer 17: walks, a way each. -/
import Derived.Test.YtcbjkamjkaiofaaES17
namespace Go.Proofs.Ytcbjkamjkaiofaa.C17
open Go.ChangeShapes Go.WideShapes Go.ChangeAt Go.RowKit Go.Proofs.Ytcbjkamjkaiofaa.Mem Go.Proofs.Ytcbjkamjkaiofaa.Cb Go.Proofs.Ytcbjkamjkaiofaa.Sp
set_option linter.unusedVariables false
set_option linter.unusedSimpArgs false

theorem conv_lead {y : Nat} (hy : y < 256) (w : World) : (convert 22 9 (.slice (some ⟨w.heap.size, 0, none⟩) 2 2)).run Try.prog (w.alloc (.cells #[.int .u8 142, .int .u8 (y : Int)] 5)) = .ok (.string (str [b8 142, b8 y])) (w.alloc (.cells #[.int .u8 142, .int .u8 (y : Int)] 5)) := conv_two (show 142 < 256 by omega) hy w
set_option maxRecDepth 100000 in
set_option maxHeartbeats 1000000 in
theorem s_kind (k u : Int) (hk : Hid (has k = false)) (w : World) : Calls Try.prog 13 #[.int .i64 k, .int .i32 u] w fun e w' => e = .returned (.agg (pZ 5 ⟨#[]⟩)) ∧ w.grownBy w' none := by
  go_enter Try.func13, Try.ntmps13
  go_upto_region 1 with (refine wpList_allocC _ rfl 33 rfl (pZ 0 ⟨#[]⟩) (zeroP _) ?_; intro w1 rs1 hg1)
  have hG1 : Hid (w.grownBy w1 none) := Hid.mk' hg1
  have hB : Hid (w.heap.size ≤ w.heap.size) := Hid.mk' (Nat.le_refl _)
  obtain ⟨B, hBe⟩ : ∃ B, Hid (w.heap.size = B) := ⟨_, Hid.mk' rfl⟩
  have hB2 : Hid (w.heap.size ≤ B) := Hid.mk' (by rw [← hBe.out]; exact hB.out)
  rw [hBe.out] at rs1
  rw [hBe.out]
  clear hg1 hB hBe
  go_wp2_with (first
    | (go_at_call 11; refine (hasRef k false hk _).mono ?_; rintro e w2 ⟨rfl, hg⟩; have rs2 := rs1.kept0 hg; have hG2 : Hid (w.grownBy w2 none) := Hid.mk' (gt hG1.out hg); clear rs1 hg)
    | (refine wpList_storeC _ rfl 33 _ _ rfl B (pZ 0 ⟨#[]⟩) (pZ 5 ⟨#[]⟩) infoP rfl (pC_one _ _ _ _ _ _) rfl rfl rs2 ?_; intro wz rsz hgz))
  refine bodyPost_ret (v := .agg (pZ 5 ⟨#[]⟩)) (results_cell_row Try.results13 _ wz B 33 _ (0, 0) _ rfl rsz Try.underlying33 rfl infoP) rfl ⟨rfl, ?_⟩
  exact grownBy_new hG2.out hgz (fun k hk => by have h5 := Option.some.inj hk; have h6 := hB2.out; omega)
set_option maxRecDepth 100000 in
set_option maxHeartbeats 1000000 in
theorem s_low (k : Int) (hk : Hid (has k = true)) (n : Nat) (hn : n < 128) (w : World) : Calls Try.prog 13 #[.int .i64 k, .int .i32 (n : Int)] w fun e w' => e = .returned (.agg (pZ 0 (str [b8 n]))) ∧ w.grownBy w' none := by
  have p0 : decide (0 ≤ (n : Int)) = true := by simp
  have p1 : decide ((n : Int) < 128) = true := by simp; omega
  have p2 : (n : Int) < 256 := by omega
  go_enter Try.func13, Try.ntmps13
  go_upto_region 1 with (refine wpList_allocC _ rfl 33 rfl (pZ 0 ⟨#[]⟩) (zeroP _) ?_; intro w1 rs1 hg1)
  have hG1 : Hid (w.grownBy w1 none) := Hid.mk' hg1
  have hB : Hid (w.heap.size ≤ w.heap.size) := Hid.mk' (Nat.le_refl _)
  obtain ⟨B, hBe⟩ : ∃ B, Hid (w.heap.size = B) := ⟨_, Hid.mk' rfl⟩
  have hB2 : Hid (w.heap.size ≤ B) := Hid.mk' (by rw [← hBe.out]; exact hB.out)
  rw [hBe.out] at rs1
  rw [hBe.out]
  clear hg1 hB hBe
  go_wp2_with (first
    | (go_at_call 11; refine (hasRef k true hk _).mono ?_; rintro e w2 ⟨rfl, hg⟩; have rs2 := rs1.kept0 hg; have hG2 : Hid (w.grownBy w2 none) := Hid.mk' (gt hG1.out hg); clear rs1 hg; have hcv := conv_one (show n < 256 by omega) w2)
    | (refine wpList_storeC _ rfl 33 _ _ rfl B (pZ 0 ⟨#[]⟩) (pZ 0 (str [b8 n])) infoP rfl (pC_one _ _ _ _ _ _) rfl rfl (rs2.kept0 (World.grownBy_alloc _ _ _)) ?_; intro wz rsz hgz))
  refine bodyPost_ret (v := .agg (pZ 0 (str [b8 n]))) (results_cell_row Try.results13 _ wz B 33 _ (0, 0) _ rfl rsz Try.underlying33 rfl infoP) rfl ⟨rfl, ?_⟩
  exact grownBy_new (gt hG2.out (World.grownBy_alloc _ _ _)) hgz (fun k hk => by have h5 := Option.some.inj hk; have h6 := hB2.out; omega)
set_option maxRecDepth 100000 in
set_option maxHeartbeats 1000000 in
theorem s_place (k : Int) (hk : Hid (has k = true)) (u : Int) (h1 : 128 ≤ u) (A D : Nat) (hA : A ≤ 94) (hB0 : D ≤ 94) (hP : Hid (epl k u = (A, D, true))) (x y : Nat) (hx : A + 160 = x) (hy : D + 160 = y) (w : World) : Calls Try.prog 13 #[.int .i64 k, .int .i32 u] w fun e w' => e = .returned (.agg (pZ 0 (str [b8 x, b8 y]))) ∧ w.grownBy w' none := by
  have p0 : decide (0 ≤ u) = true := by simp; omega
  have p1 : decide (u < 128) = false := by simp; omega
  have q1 : (A : Int) + 160 = (x : Int) := by omega
  have q2 : (D : Int) + 160 = (y : Int) := by omega
  have q3 : (x : Int) < 256 := by omega
  have q4 : (y : Int) < 256 := by omega
  clear hx hy
  go_enter Try.func13, Try.ntmps13
  go_upto_region 1 with (refine wpList_allocC _ rfl 33 rfl (pZ 0 ⟨#[]⟩) (zeroP _) ?_; intro w1 rs1 hg1)
  have hG1 : Hid (w.grownBy w1 none) := Hid.mk' hg1
  have hB : Hid (w.heap.size ≤ w.heap.size) := Hid.mk' (Nat.le_refl _)
  obtain ⟨B, hBe⟩ : ∃ B, Hid (w.heap.size = B) := ⟨_, Hid.mk' rfl⟩
  have hB2 : Hid (w.heap.size ≤ B) := Hid.mk' (by rw [← hBe.out]; exact hB.out)
  rw [hBe.out] at rs1
  rw [hBe.out]
  clear hg1 hB hBe
  go_wp2_with (first
    | (go_at_call 11; refine (hasRef k true hk _).mono ?_; rintro e w2 ⟨rfl, hg⟩; have rs2 := rs1.kept0 hg; have hG2 : Hid (w.grownBy w2 none) := Hid.mk' (gt hG1.out hg); clear rs1 hg)
    | (go_at_call 23; refine (plRef k u _ A D true hP).mono ?_; rintro e w3 ⟨rfl, hg⟩; have rs3 := rs2.kept0 hg; have hG3 : Hid (w.grownBy w3 none) := Hid.mk' (gt hG2.out hg); clear rs2 hg; have hcv := conv_two (show x < 256 by omega) (show y < 256 by omega) w3)
    | (refine wpList_storeC _ rfl 33 _ _ rfl B (pZ 0 ⟨#[]⟩) (pZ 0 (str [b8 x, b8 y])) infoP rfl (pC_one _ _ _ _ _ _) rfl rfl (rs3.kept0 (World.grownBy_alloc _ _ _)) ?_; intro wz rsz hgz))
  refine bodyPost_ret (v := .agg (pZ 0 (str [b8 x, b8 y]))) (results_cell_row Try.results13 _ wz B 33 _ (0, 0) _ rfl rsz Try.underlying33 rfl infoP) rfl ⟨rfl, ?_⟩
  exact grownBy_new (gt hG3.out (World.grownBy_alloc _ _ _)) hgz (fun k hk => by have h5 := Option.some.inj hk; have h6 := hB2.out; omega)
set_option maxRecDepth 100000 in
set_option maxHeartbeats 1000000 in
theorem s_half (u : Int) (h1 : 65377 ≤ u) (h2 : u ≤ 65439) (A D : Nat) (hP : Hid (epl 81 u = (A, D, false))) (y : Nat) (hy : y < 256) (hb : Hid (C14.hbR u = some y)) (w : World) : Calls Try.prog 13 #[.int .i64 81, .int .i32 u] w fun e w' => e = .returned (.agg (pZ 0 (str [b8 142, b8 y]))) ∧ w.grownBy w' none := by
  have p0 : decide (0 ≤ u) = true := by simp; omega
  have p1 : decide (u < 128) = false := by simp; omega
  have q1 : decide (65377 ≤ u) = true := by simp; omega
  have q2 : decide (u ≤ 65439) = true := by simp; omega
  go_enter Try.func13, Try.ntmps13
  go_upto_region 1 with (refine wpList_allocC _ rfl 33 rfl (pZ 0 ⟨#[]⟩) (zeroP _) ?_; intro w1 rs1 hg1)
  have hG1 : Hid (w.grownBy w1 none) := Hid.mk' hg1
  have hB : Hid (w.heap.size ≤ w.heap.size) := Hid.mk' (Nat.le_refl _)
  obtain ⟨B, hBe⟩ : ∃ B, Hid (w.heap.size = B) := ⟨_, Hid.mk' rfl⟩
  have hB2 : Hid (w.heap.size ≤ B) := Hid.mk' (by rw [← hBe.out]; exact hB.out)
  rw [hBe.out] at rs1
  rw [hBe.out]
  clear hg1 hB hBe
  go_wp2_with (first
    | (go_at_call 11; refine (hasRef 81 true (Hid.mk' (by decide)) _).mono ?_; rintro e w2 ⟨rfl, hg⟩; have rs2 := rs1.kept0 hg; have hG2 : Hid (w.grownBy w2 none) := Hid.mk' (gt hG1.out hg); clear rs1 hg)
    | (go_at_call 23; refine (plRef 81 u _ A D false hP).mono ?_; rintro e w3 ⟨rfl, hg⟩; have rs3 := rs2.kept0 hg; have hG3 : Hid (w.grownBy w3 none) := Hid.mk' (gt hG2.out hg); clear rs2 hg)
    | (go_at_call 24; refine (halfByteRef u y hb _).mono ?_; rintro e w4 ⟨rfl, hg⟩; have rs4 := rs3.kept0 hg; have hG4 : Hid (w.grownBy w4 none) := Hid.mk' (gt hG3.out hg); clear rs3 hg; have hcv := conv_lead hy w4)
    | (refine wpList_storeC _ rfl 33 _ _ rfl B (pZ 0 ⟨#[]⟩) (pZ 0 (str [b8 142, b8 y])) infoP rfl (pC_one _ _ _ _ _ _) rfl rfl (rs4.kept0 (World.grownBy_alloc _ _ _)) ?_; intro wz rsz hgz))
  refine bodyPost_ret (v := .agg (pZ 0 (str [b8 142, b8 y]))) (results_cell_row Try.results13 _ wz B 33 _ (0, 0) _ rfl rsz Try.underlying33 rfl infoP) rfl ⟨rfl, ?_⟩
  exact grownBy_new (gt hG4.out (World.grownBy_alloc _ _ _)) hgz (fun k hk => by have h5 := Option.some.inj hk; have h6 := hB2.out; omega)
set_option maxRecDepth 100000 in
set_option maxHeartbeats 1000000 in
theorem s_nonea (k : Int) (hk : Hid (has k = true)) (hk2 : (k == 81) = false) (u : Int) (h1 : u < 0) (A D : Nat) (hP : Hid (epl k u = (A, D, false))) (w : World) : Calls Try.prog 13 #[.int .i64 k, .int .i32 u] w fun e w' => e = .returned (.agg (pZ 11 ⟨#[]⟩)) ∧ w.grownBy w' none := by
  have p0 : decide (0 ≤ u) = false := by simp; omega
  go_enter Try.func13, Try.ntmps13
  go_upto_region 1 with (refine wpList_allocC _ rfl 33 rfl (pZ 0 ⟨#[]⟩) (zeroP _) ?_; intro w1 rs1 hg1)
  have hG1 : Hid (w.grownBy w1 none) := Hid.mk' hg1
  have hB : Hid (w.heap.size ≤ w.heap.size) := Hid.mk' (Nat.le_refl _)
  obtain ⟨B, hBe⟩ : ∃ B, Hid (w.heap.size = B) := ⟨_, Hid.mk' rfl⟩
  have hB2 : Hid (w.heap.size ≤ B) := Hid.mk' (by rw [← hBe.out]; exact hB.out)
  rw [hBe.out] at rs1
  rw [hBe.out]
  clear hg1 hB hBe
  go_wp2_with (first
    | (go_at_call 11; refine (hasRef k true hk _).mono ?_; rintro e w2 ⟨rfl, hg⟩; have rs2 := rs1.kept0 hg; have hG2 : Hid (w.grownBy w2 none) := Hid.mk' (gt hG1.out hg); clear rs1 hg)
    | (go_at_call 23; refine (plRef k u _ A D false hP).mono ?_; rintro e w3 ⟨rfl, hg⟩; have rs3 := rs2.kept0 hg; have hG3 : Hid (w.grownBy w3 none) := Hid.mk' (gt hG2.out hg); clear rs2 hg)
    | (refine wpList_storeC _ rfl 33 _ _ rfl B (pZ 0 ⟨#[]⟩) (pZ 11 ⟨#[]⟩) infoP rfl (pC_one _ _ _ _ _ _) rfl rfl rs3 ?_; intro wz rsz hgz))
  refine bodyPost_ret (v := .agg (pZ 11 ⟨#[]⟩)) (results_cell_row Try.results13 _ wz B 33 _ (0, 0) _ rfl rsz Try.underlying33 rfl infoP) rfl ⟨rfl, ?_⟩
  exact grownBy_new hG3.out hgz (fun k hk => by have h5 := Option.some.inj hk; have h6 := hB2.out; omega)
set_option maxRecDepth 100000 in
set_option maxHeartbeats 1000000 in
theorem s_noneb (k : Int) (hk : Hid (has k = true)) (hk2 : (k == 81) = false) (u : Int) (h1 : 128 ≤ u) (A D : Nat) (hP : Hid (epl k u = (A, D, false))) (w : World) : Calls Try.prog 13 #[.int .i64 k, .int .i32 u] w fun e w' => e = .returned (.agg (pZ 11 ⟨#[]⟩)) ∧ w.grownBy w' none := by
  have p0 : decide (0 ≤ u) = true := by simp; omega
  have p1 : decide (u < 128) = false := by simp; omega
  go_enter Try.func13, Try.ntmps13
  go_upto_region 1 with (refine wpList_allocC _ rfl 33 rfl (pZ 0 ⟨#[]⟩) (zeroP _) ?_; intro w1 rs1 hg1)
  have hG1 : Hid (w.grownBy w1 none) := Hid.mk' hg1
  have hB : Hid (w.heap.size ≤ w.heap.size) := Hid.mk' (Nat.le_refl _)
  obtain ⟨B, hBe⟩ : ∃ B, Hid (w.heap.size = B) := ⟨_, Hid.mk' rfl⟩
  have hB2 : Hid (w.heap.size ≤ B) := Hid.mk' (by rw [← hBe.out]; exact hB.out)
  rw [hBe.out] at rs1
  rw [hBe.out]
  clear hg1 hB hBe
  go_wp2_with (first
    | (go_at_call 11; refine (hasRef k true hk _).mono ?_; rintro e w2 ⟨rfl, hg⟩; have rs2 := rs1.kept0 hg; have hG2 : Hid (w.grownBy w2 none) := Hid.mk' (gt hG1.out hg); clear rs1 hg)
    | (go_at_call 23; refine (plRef k u _ A D false hP).mono ?_; rintro e w3 ⟨rfl, hg⟩; have rs3 := rs2.kept0 hg; have hG3 : Hid (w.grownBy w3 none) := Hid.mk' (gt hG2.out hg); clear rs2 hg)
    | (refine wpList_storeC _ rfl 33 _ _ rfl B (pZ 0 ⟨#[]⟩) (pZ 11 ⟨#[]⟩) infoP rfl (pC_one _ _ _ _ _ _) rfl rfl rs3 ?_; intro wz rsz hgz))
  refine bodyPost_ret (v := .agg (pZ 11 ⟨#[]⟩)) (results_cell_row Try.results13 _ wz B 33 _ (0, 0) _ rfl rsz Try.underlying33 rfl infoP) rfl ⟨rfl, ?_⟩
  exact grownBy_new hG3.out hgz (fun k hk => by have h5 := Option.some.inj hk; have h6 := hB2.out; omega)
set_option maxRecDepth 100000 in
set_option maxHeartbeats 1000000 in
theorem s_nonec (u : Int) (h1 : u < 0) (A D : Nat) (hP : Hid (epl 81 u = (A, D, false))) (w : World) : Calls Try.prog 13 #[.int .i64 81, .int .i32 u] w fun e w' => e = .returned (.agg (pZ 11 ⟨#[]⟩)) ∧ w.grownBy w' none := by
  have p0 : decide (0 ≤ u) = false := by simp; omega
  have q1 : decide (65377 ≤ u) = false := by simp; omega
  go_enter Try.func13, Try.ntmps13
  go_upto_region 1 with (refine wpList_allocC _ rfl 33 rfl (pZ 0 ⟨#[]⟩) (zeroP _) ?_; intro w1 rs1 hg1)
  have hG1 : Hid (w.grownBy w1 none) := Hid.mk' hg1
  have hB : Hid (w.heap.size ≤ w.heap.size) := Hid.mk' (Nat.le_refl _)
  obtain ⟨B, hBe⟩ : ∃ B, Hid (w.heap.size = B) := ⟨_, Hid.mk' rfl⟩
  have hB2 : Hid (w.heap.size ≤ B) := Hid.mk' (by rw [← hBe.out]; exact hB.out)
  rw [hBe.out] at rs1
  rw [hBe.out]
  clear hg1 hB hBe
  go_wp2_with (first
    | (go_at_call 11; refine (hasRef 81 true (Hid.mk' (by decide)) _).mono ?_; rintro e w2 ⟨rfl, hg⟩; have rs2 := rs1.kept0 hg; have hG2 : Hid (w.grownBy w2 none) := Hid.mk' (gt hG1.out hg); clear rs1 hg)
    | (go_at_call 23; refine (plRef 81 u _ A D false hP).mono ?_; rintro e w3 ⟨rfl, hg⟩; have rs3 := rs2.kept0 hg; have hG3 : Hid (w.grownBy w3 none) := Hid.mk' (gt hG2.out hg); clear rs2 hg)
    | (refine wpList_storeC _ rfl 33 _ _ rfl B (pZ 0 ⟨#[]⟩) (pZ 11 ⟨#[]⟩) infoP rfl (pC_one _ _ _ _ _ _) rfl rfl rs3 ?_; intro wz rsz hgz))
  refine bodyPost_ret (v := .agg (pZ 11 ⟨#[]⟩)) (results_cell_row Try.results13 _ wz B 33 _ (0, 0) _ rfl rsz Try.underlying33 rfl infoP) rfl ⟨rfl, ?_⟩
  exact grownBy_new hG3.out hgz (fun k hk => by have h5 := Option.some.inj hk; have h6 := hB2.out; omega)
set_option maxRecDepth 100000 in
set_option maxHeartbeats 1000000 in
theorem s_noned (u : Int) (h1 : 128 ≤ u) (h2 : u < 65377) (A D : Nat) (hP : Hid (epl 81 u = (A, D, false))) (w : World) : Calls Try.prog 13 #[.int .i64 81, .int .i32 u] w fun e w' => e = .returned (.agg (pZ 11 ⟨#[]⟩)) ∧ w.grownBy w' none := by
  have p0 : decide (0 ≤ u) = true := by simp; omega
  have p1 : decide (u < 128) = false := by simp; omega
  have q1 : decide (65377 ≤ u) = false := by simp; omega
  go_enter Try.func13, Try.ntmps13
  go_upto_region 1 with (refine wpList_allocC _ rfl 33 rfl (pZ 0 ⟨#[]⟩) (zeroP _) ?_; intro w1 rs1 hg1)
  have hG1 : Hid (w.grownBy w1 none) := Hid.mk' hg1
  have hB : Hid (w.heap.size ≤ w.heap.size) := Hid.mk' (Nat.le_refl _)
  obtain ⟨B, hBe⟩ : ∃ B, Hid (w.heap.size = B) := ⟨_, Hid.mk' rfl⟩
  have hB2 : Hid (w.heap.size ≤ B) := Hid.mk' (by rw [← hBe.out]; exact hB.out)
  rw [hBe.out] at rs1
  rw [hBe.out]
  clear hg1 hB hBe
  go_wp2_with (first
    | (go_at_call 11; refine (hasRef 81 true (Hid.mk' (by decide)) _).mono ?_; rintro e w2 ⟨rfl, hg⟩; have rs2 := rs1.kept0 hg; have hG2 : Hid (w.grownBy w2 none) := Hid.mk' (gt hG1.out hg); clear rs1 hg)
    | (go_at_call 23; refine (plRef 81 u _ A D false hP).mono ?_; rintro e w3 ⟨rfl, hg⟩; have rs3 := rs2.kept0 hg; have hG3 : Hid (w.grownBy w3 none) := Hid.mk' (gt hG2.out hg); clear rs2 hg)
    | (refine wpList_storeC _ rfl 33 _ _ rfl B (pZ 0 ⟨#[]⟩) (pZ 11 ⟨#[]⟩) infoP rfl (pC_one _ _ _ _ _ _) rfl rfl rs3 ?_; intro wz rsz hgz))
  refine bodyPost_ret (v := .agg (pZ 11 ⟨#[]⟩)) (results_cell_row Try.results13 _ wz B 33 _ (0, 0) _ rfl rsz Try.underlying33 rfl infoP) rfl ⟨rfl, ?_⟩
  exact grownBy_new hG3.out hgz (fun k hk => by have h5 := Option.some.inj hk; have h6 := hB2.out; omega)
set_option maxRecDepth 100000 in
set_option maxHeartbeats 1000000 in
theorem s_nonee (u : Int) (h1 : 65439 < u) (A D : Nat) (hP : Hid (epl 81 u = (A, D, false))) (w : World) : Calls Try.prog 13 #[.int .i64 81, .int .i32 u] w fun e w' => e = .returned (.agg (pZ 11 ⟨#[]⟩)) ∧ w.grownBy w' none := by
  have p0 : decide (0 ≤ u) = true := by simp; omega
  have p1 : decide (u < 128) = false := by simp; omega
  have q1 : decide (65377 ≤ u) = true := by simp; omega
  have q2 : decide (u ≤ 65439) = false := by simp; omega
  go_enter Try.func13, Try.ntmps13
  go_upto_region 1 with (refine wpList_allocC _ rfl 33 rfl (pZ 0 ⟨#[]⟩) (zeroP _) ?_; intro w1 rs1 hg1)
  have hG1 : Hid (w.grownBy w1 none) := Hid.mk' hg1
  have hB : Hid (w.heap.size ≤ w.heap.size) := Hid.mk' (Nat.le_refl _)
  obtain ⟨B, hBe⟩ : ∃ B, Hid (w.heap.size = B) := ⟨_, Hid.mk' rfl⟩
  have hB2 : Hid (w.heap.size ≤ B) := Hid.mk' (by rw [← hBe.out]; exact hB.out)
  rw [hBe.out] at rs1
  rw [hBe.out]
  clear hg1 hB hBe
  go_wp2_with (first
    | (go_at_call 11; refine (hasRef 81 true (Hid.mk' (by decide)) _).mono ?_; rintro e w2 ⟨rfl, hg⟩; have rs2 := rs1.kept0 hg; have hG2 : Hid (w.grownBy w2 none) := Hid.mk' (gt hG1.out hg); clear rs1 hg)
    | (go_at_call 23; refine (plRef 81 u _ A D false hP).mono ?_; rintro e w3 ⟨rfl, hg⟩; have rs3 := rs2.kept0 hg; have hG3 : Hid (w.grownBy w3 none) := Hid.mk' (gt hG2.out hg); clear rs2 hg)
    | (refine wpList_storeC _ rfl 33 _ _ rfl B (pZ 0 ⟨#[]⟩) (pZ 11 ⟨#[]⟩) infoP rfl (pC_one _ _ _ _ _ _) rfl rfl rs3 ?_; intro wz rsz hgz))
  refine bodyPost_ret (v := .agg (pZ 11 ⟨#[]⟩)) (results_cell_row Try.results13 _ wz B 33 _ (0, 0) _ rfl rsz Try.underlying33 rfl infoP) rfl ⟨rfl, ?_⟩
  exact grownBy_new hG3.out hgz (fun k hk => by have h5 := Option.some.inj hk; have h6 := hB2.out; omega)
end Go.Proofs.Ytcbjkamjkaiofaa.C17
