/- The document's Set of layer 20, whole. -/
import Derived.Test.YtpkhkeamnfoekaaHS20
namespace Go.Proofs.Ytpkhkeamnfoekaa.C20
open Go.ChangeShapes Go.WideShapes Go.ChangeAt Go.RowKit Go.Proofs.Ytpkhkeamnfoekaa.Mem Go.Proofs.Ytpkhkeamnfoekaa.Cb Go.Proofs.Ytpkhkeamnfoekaa.Sp
set_option linter.unusedVariables false
set_option linter.unusedSimpArgs false

set_option maxRecDepth 100000 in
set_option maxHeartbeats 1000000 in
theorem s_no (md bi ac he u : Int) (hm : Hid (mo md bi ac he = 2)) (w : World) : Calls Try.prog 7 #[stV md bi ac he, .int .i32 u] w fun e w' => e = .returned (.agg (pM 7 ⟨#[]⟩ 0)) ∧ w.grownBy w' none := by
  go_enter Try.func7, Try.ntmps7
  go_upto_region 1 with (first
    | (refine wpList_boxC _ rfl 24 _ rfl (sC md bi ac he) rfl ?_; intro w1 ss1 hg1)
    | (refine wpList_allocC _ rfl 29 rfl (pZ 0 ⟨#[]⟩) (zeroP _) ?_; intro w2 rs2 hg2))
  have hG2 : Hid (w.grownBy w2 none) := Hid.mk' (gt hg1 hg2)
  have ss2 := ss1.kept0 hg2
  have hB2 : Hid (w.heap.size ≤ w1.heap.size) := Hid.mk' hg1.size
  clear hg1 hg2 ss1
  generalize w1.heap.size = B at *
  obtain ⟨SB, hSB⟩ : ∃ SB, Hid (w.heap.size = SB) := ⟨_, Hid.mk' rfl⟩
  rw [hSB.out] at ss2
  rw [hSB.out]
  have s0 := ss2.cell 0 rfl
  go_wp2_with (first
    | (go_at_call 5; refine (end_no md bi ac he hm _).mono ?_; rintro e w3 ⟨rfl, hg⟩; have rs3 := rs2.kept0 hg; have ss3 := ss2.kept0 hg; have hG3 : Hid (w.grownBy w3 none) := Hid.mk' (gt hG2.out hg); clear s0; have s0 := ss3.cell 0 rfl; clear rs2 hg ss2)
    | (refine wpList_loadC _ rfl 24 _ rfl _ Try.underlying24 rfl SB (sC md bi ac he) infoS rfl (by first | exact ss3 | exact ss2) ?_)
    | (refine wpList_storeC _ rfl 29 _ _ rfl B (pZ 0 ⟨#[]⟩) (pM 7 ⟨#[]⟩ 0) infoP rfl (pC_one _ _ _ _ _ _) rfl rfl rs3 ?_; intro wz rsz hgz))
  refine bodyPost_ret (v := .agg (pM 7 ⟨#[]⟩ 0)) (results_cell_row Try.results7 _ wz B 29 _ (0, 0) _ rfl rsz Try.underlying29 rfl infoP) rfl ⟨rfl, ?_⟩
  exact grownBy_new hG3.out hgz (fun k hk => by have h5 := Option.some.inj hk; have h6 := hB2.out; omega)
set_option maxRecDepth 100000 in
set_option maxHeartbeats 1000000 in
theorem s_t0 (w : World) : Calls Try.prog 7 #[stV 0 0 0 0, .int .i32 126] w fun e w' => e = .returned (.agg (pM 0 ((⟨#[]⟩ : ByteArray) ++ (⟨#[126, 126]⟩ : ByteArray)) 0)) ∧ w.grownBy w' none := by
  go_enter Try.func7, Try.ntmps7
  go_upto_region 1 with (first
    | (refine wpList_boxC _ rfl 24 _ rfl (sC 0 0 0 0) rfl ?_; intro w1 ss1 hg1)
    | (refine wpList_allocC _ rfl 29 rfl (pZ 0 ⟨#[]⟩) (zeroP _) ?_; intro w2 rs2 hg2))
  have hG2 : Hid (w.grownBy w2 none) := Hid.mk' (gt hg1 hg2)
  have ss2 := ss1.kept0 hg2
  have hB2 : Hid (w.heap.size ≤ w1.heap.size) := Hid.mk' hg1.size
  clear hg1 hg2 ss1
  generalize w1.heap.size = B at *
  obtain ⟨SB, hSB⟩ : ∃ SB, Hid (w.heap.size = SB) := ⟨_, Hid.mk' rfl⟩
  rw [hSB.out] at ss2
  rw [hSB.out]
  have s0 := ss2.cell 0 rfl
  go_wp2_with (first
    | (go_at_call 5; refine (end_0 _).mono ?_; rintro e w3 ⟨rfl, hg⟩; have rs3 := rs2.kept0 hg; have ss3 := ss2.kept0 hg; have hG3 : Hid (w.grownBy w3 none) := Hid.mk' (gt hG2.out hg); clear s0; have s0 := ss3.cell 0 rfl; clear rs2 hg ss2)
    | (refine wpList_loadC _ rfl 24 _ rfl _ Try.underlying24 rfl SB (sC 0 0 0 0) infoS rfl (by first | exact ss3 | exact ss2) ?_)
    | (refine wpList_storeC _ rfl 29 _ _ rfl B (pZ 0 ⟨#[]⟩) (pM 0 ((⟨#[]⟩ : ByteArray) ++ (⟨#[126, 126]⟩ : ByteArray)) 0) infoP rfl (pC_one _ _ _ _ _ _) rfl rfl rs3 ?_; intro wz rsz hgz))
  refine bodyPost_ret (v := .agg (pM 0 ((⟨#[]⟩ : ByteArray) ++ (⟨#[126, 126]⟩ : ByteArray)) 0)) (results_cell_row Try.results7 _ wz B 29 _ (0, 0) _ rfl rsz Try.underlying29 rfl infoP) rfl ⟨rfl, ?_⟩
  exact grownBy_new hG3.out hgz (fun k hk => by have h5 := Option.some.inj hk; have h6 := hB2.out; omega)
set_option maxRecDepth 100000 in
set_option maxHeartbeats 1000000 in
theorem s_low0 (n : Nat) (hn : n < 128) (h6 : n ≠ 126) (w : World) : Calls Try.prog 7 #[stV 0 0 0 0, .int .i32 (n : Int)] w fun e w' => e = .returned (.agg (pM 0 ((⟨#[]⟩ : ByteArray) ++ str [b8 n]) 0)) ∧ w.grownBy w' none := by
  have p0 : decide (0 ≤ (n : Int)) = true := by simp
  have p1 : decide ((n : Int) < 128) = true := by simp; omega
  have p2 : (n : Int) < 256 := by omega
  have p3 : ((n : Int) == 126) = false := by simp; omega
  go_enter Try.func7, Try.ntmps7
  go_upto_region 1 with (first
    | (refine wpList_boxC _ rfl 24 _ rfl (sC 0 0 0 0) rfl ?_; intro w1 ss1 hg1)
    | (refine wpList_allocC _ rfl 29 rfl (pZ 0 ⟨#[]⟩) (zeroP _) ?_; intro w2 rs2 hg2))
  have hG2 : Hid (w.grownBy w2 none) := Hid.mk' (gt hg1 hg2)
  have ss2 := ss1.kept0 hg2
  have hB2 : Hid (w.heap.size ≤ w1.heap.size) := Hid.mk' hg1.size
  clear hg1 hg2 ss1
  generalize w1.heap.size = B at *
  obtain ⟨SB, hSB⟩ : ∃ SB, Hid (w.heap.size = SB) := ⟨_, Hid.mk' rfl⟩
  rw [hSB.out] at ss2
  rw [hSB.out]
  have s0 := ss2.cell 0 rfl
  go_wp2_with (first
    | (go_at_call 5; refine (end_0 _).mono ?_; rintro e w3 ⟨rfl, hg⟩; have rs3 := rs2.kept0 hg; have ss3 := ss2.kept0 hg; have hG3 : Hid (w.grownBy w3 none) := Hid.mk' (gt hG2.out hg); clear s0; have s0 := ss3.cell 0 rfl; clear rs2 hg ss2; have hcv := conv_one (show n < 256 by omega) w3)
    | (refine wpList_loadC _ rfl 24 _ rfl _ Try.underlying24 rfl SB (sC 0 0 0 0) infoS rfl (by first | exact ss3 | exact ss2) ?_)
    | (refine wpList_storeC _ rfl 29 _ _ rfl B (pZ 0 ⟨#[]⟩) (pM 0 ((⟨#[]⟩ : ByteArray) ++ str [b8 n]) 0) infoP rfl (pC_one _ _ _ _ _ _) rfl rfl (rs3.kept0 (World.grownBy_alloc _ _ _)) ?_; intro wz rsz hgz))
  refine bodyPost_ret (v := .agg (pM 0 ((⟨#[]⟩ : ByteArray) ++ str [b8 n]) 0)) (results_cell_row Try.results7 _ wz B 29 _ (0, 0) _ rfl rsz Try.underlying29 rfl infoP) rfl ⟨rfl, ?_⟩
  exact grownBy_new (gt hG3.out (World.grownBy_alloc _ _ _)) hgz (fun k hk => by have h5 := Option.some.inj hk; have h6 := hB2.out; omega)
set_option maxRecDepth 100000 in
set_option maxHeartbeats 1000000 in
theorem s_nonep0 (u : Int) (h1 : 128 ≤ u) (A D : Nat) (hP : Hid (C15.plT u = (A, D, false))) (w : World) : Calls Try.prog 7 #[stV 0 0 0 0, .int .i32 u] w fun e w' => e = .returned (.agg (pM 11 ⟨#[]⟩ 0)) ∧ w.grownBy w' none := by
  have p0 : decide (0 ≤ u) = true := by simp; omega
  have p1 : decide (u < 128) = false := by simp; omega
  have p2 : (u == 126) = false := by simp; omega
  go_enter Try.func7, Try.ntmps7
  go_upto_region 1 with (first
    | (refine wpList_boxC _ rfl 24 _ rfl (sC 0 0 0 0) rfl ?_; intro w1 ss1 hg1)
    | (refine wpList_allocC _ rfl 29 rfl (pZ 0 ⟨#[]⟩) (zeroP _) ?_; intro w2 rs2 hg2))
  have hG2 : Hid (w.grownBy w2 none) := Hid.mk' (gt hg1 hg2)
  have ss2 := ss1.kept0 hg2
  have hB2 : Hid (w.heap.size ≤ w1.heap.size) := Hid.mk' hg1.size
  clear hg1 hg2 ss1
  generalize w1.heap.size = B at *
  obtain ⟨SB, hSB⟩ : ∃ SB, Hid (w.heap.size = SB) := ⟨_, Hid.mk' rfl⟩
  rw [hSB.out] at ss2
  rw [hSB.out]
  have s0 := ss2.cell 0 rfl
  go_wp2_with (first
    | (go_at_call 5; refine (end_0 _).mono ?_; rintro e w3 ⟨rfl, hg⟩; have rs3 := rs2.kept0 hg; have ss3 := ss2.kept0 hg; have hG3 : Hid (w.grownBy w3 none) := Hid.mk' (gt hG2.out hg); clear s0; have s0 := ss3.cell 0 rfl; clear rs2 hg ss2)
    | (go_at_call 15; refine (C15.refPlace_any u _ A D false hP).mono ?_; rintro e w4 ⟨rfl, hg⟩; have rs4 := rs3.kept0 hg; have ss4 := ss3.kept0 hg; have hG4 : Hid (w.grownBy w4 none) := Hid.mk' (gt hG3.out hg); clear s0; have s0 := ss4.cell 0 rfl; clear rs3 hg ss3)
    | (refine wpList_loadC _ rfl 24 _ rfl _ Try.underlying24 rfl SB (sC 0 0 0 0) infoS rfl (by first | exact ss4 | exact ss3 | exact ss2) ?_)
    | (refine wpList_storeC _ rfl 29 _ _ rfl B (pZ 0 ⟨#[]⟩) (pM 11 ⟨#[]⟩ 0) infoP rfl (pC_one _ _ _ _ _ _) rfl rfl rs4 ?_; intro wz rsz hgz))
  refine bodyPost_ret (v := .agg (pM 11 ⟨#[]⟩ 0)) (results_cell_row Try.results7 _ wz B 29 _ (0, 0) _ rfl rsz Try.underlying29 rfl infoP) rfl ⟨rfl, ?_⟩
  exact grownBy_new hG4.out hgz (fun k hk => by have h5 := Option.some.inj hk; have h6 := hB2.out; omega)
set_option maxRecDepth 100000 in
set_option maxHeartbeats 1000000 in
theorem s_nonen0 (u : Int) (h1 : u < 0) (A D : Nat) (hP : Hid (C15.plT u = (A, D, false))) (w : World) : Calls Try.prog 7 #[stV 0 0 0 0, .int .i32 u] w fun e w' => e = .returned (.agg (pM 11 ⟨#[]⟩ 0)) ∧ w.grownBy w' none := by
  have p0 : decide (0 ≤ u) = false := by simp; omega
  have p2 : (u == 126) = false := by simp; omega
  go_enter Try.func7, Try.ntmps7
  go_upto_region 1 with (first
    | (refine wpList_boxC _ rfl 24 _ rfl (sC 0 0 0 0) rfl ?_; intro w1 ss1 hg1)
    | (refine wpList_allocC _ rfl 29 rfl (pZ 0 ⟨#[]⟩) (zeroP _) ?_; intro w2 rs2 hg2))
  have hG2 : Hid (w.grownBy w2 none) := Hid.mk' (gt hg1 hg2)
  have ss2 := ss1.kept0 hg2
  have hB2 : Hid (w.heap.size ≤ w1.heap.size) := Hid.mk' hg1.size
  clear hg1 hg2 ss1
  generalize w1.heap.size = B at *
  obtain ⟨SB, hSB⟩ : ∃ SB, Hid (w.heap.size = SB) := ⟨_, Hid.mk' rfl⟩
  rw [hSB.out] at ss2
  rw [hSB.out]
  have s0 := ss2.cell 0 rfl
  go_wp2_with (first
    | (go_at_call 5; refine (end_0 _).mono ?_; rintro e w3 ⟨rfl, hg⟩; have rs3 := rs2.kept0 hg; have ss3 := ss2.kept0 hg; have hG3 : Hid (w.grownBy w3 none) := Hid.mk' (gt hG2.out hg); clear s0; have s0 := ss3.cell 0 rfl; clear rs2 hg ss2)
    | (go_at_call 15; refine (C15.refPlace_any u _ A D false hP).mono ?_; rintro e w4 ⟨rfl, hg⟩; have rs4 := rs3.kept0 hg; have ss4 := ss3.kept0 hg; have hG4 : Hid (w.grownBy w4 none) := Hid.mk' (gt hG3.out hg); clear s0; have s0 := ss4.cell 0 rfl; clear rs3 hg ss3)
    | (refine wpList_loadC _ rfl 24 _ rfl _ Try.underlying24 rfl SB (sC 0 0 0 0) infoS rfl (by first | exact ss4 | exact ss3 | exact ss2) ?_)
    | (refine wpList_storeC _ rfl 29 _ _ rfl B (pZ 0 ⟨#[]⟩) (pM 11 ⟨#[]⟩ 0) infoP rfl (pC_one _ _ _ _ _ _) rfl rfl rs4 ?_; intro wz rsz hgz))
  refine bodyPost_ret (v := .agg (pM 11 ⟨#[]⟩ 0)) (results_cell_row Try.results7 _ wz B 29 _ (0, 0) _ rfl rsz Try.underlying29 rfl infoP) rfl ⟨rfl, ?_⟩
  exact grownBy_new hG4.out hgz (fun k hk => by have h5 := Option.some.inj hk; have h6 := hB2.out; omega)
set_option maxRecDepth 100000 in
set_option maxHeartbeats 1000000 in
theorem s_far0 (u : Int) (h1 : 128 ≤ u) (A D : Nat) (hA : 87 < A) (hP : Hid (C15.plT u = (A, D, true))) (w : World) : Calls Try.prog 7 #[stV 0 0 0 0, .int .i32 u] w fun e w' => e = .returned (.agg (pM 11 ⟨#[]⟩ 0)) ∧ w.grownBy w' none := by
  have p0 : decide (0 ≤ u) = true := by simp; omega
  have p1 : decide (u < 128) = false := by simp; omega
  have p2 : (u == 126) = false := by simp; omega
  have q1 : decide (87 < (A : Int)) = true := by simp; omega
  go_enter Try.func7, Try.ntmps7
  go_upto_region 1 with (first
    | (refine wpList_boxC _ rfl 24 _ rfl (sC 0 0 0 0) rfl ?_; intro w1 ss1 hg1)
    | (refine wpList_allocC _ rfl 29 rfl (pZ 0 ⟨#[]⟩) (zeroP _) ?_; intro w2 rs2 hg2))
  have hG2 : Hid (w.grownBy w2 none) := Hid.mk' (gt hg1 hg2)
  have ss2 := ss1.kept0 hg2
  have hB2 : Hid (w.heap.size ≤ w1.heap.size) := Hid.mk' hg1.size
  clear hg1 hg2 ss1
  generalize w1.heap.size = B at *
  obtain ⟨SB, hSB⟩ : ∃ SB, Hid (w.heap.size = SB) := ⟨_, Hid.mk' rfl⟩
  rw [hSB.out] at ss2
  rw [hSB.out]
  have s0 := ss2.cell 0 rfl
  go_wp2_with (first
    | (go_at_call 5; refine (end_0 _).mono ?_; rintro e w3 ⟨rfl, hg⟩; have rs3 := rs2.kept0 hg; have ss3 := ss2.kept0 hg; have hG3 : Hid (w.grownBy w3 none) := Hid.mk' (gt hG2.out hg); clear s0; have s0 := ss3.cell 0 rfl; clear rs2 hg ss2)
    | (go_at_call 15; refine (C15.refPlace_any u _ A D true hP).mono ?_; rintro e w4 ⟨rfl, hg⟩; have rs4 := rs3.kept0 hg; have ss4 := ss3.kept0 hg; have hG4 : Hid (w.grownBy w4 none) := Hid.mk' (gt hG3.out hg); clear s0; have s0 := ss4.cell 0 rfl; clear rs3 hg ss3)
    | (refine wpList_loadC _ rfl 24 _ rfl _ Try.underlying24 rfl SB (sC 0 0 0 0) infoS rfl (by first | exact ss4 | exact ss3 | exact ss2) ?_)
    | (refine wpList_storeC _ rfl 29 _ _ rfl B (pZ 0 ⟨#[]⟩) (pM 11 ⟨#[]⟩ 0) infoP rfl (pC_one _ _ _ _ _ _) rfl rfl rs4 ?_; intro wz rsz hgz))
  refine bodyPost_ret (v := .agg (pM 11 ⟨#[]⟩ 0)) (results_cell_row Try.results7 _ wz B 29 _ (0, 0) _ rfl rsz Try.underlying29 rfl infoP) rfl ⟨rfl, ?_⟩
  exact grownBy_new hG4.out hgz (fun k hk => by have h5 := Option.some.inj hk; have h6 := hB2.out; omega)
set_option maxRecDepth 100000 in
set_option maxHeartbeats 1000000 in
theorem s_place0 (u : Int) (h1 : 128 ≤ u) (A D : Nat) (hA : A ≤ 87) (hD : D ≤ 94) (hP : Hid (C15.plT u = (A, D, true))) (x y : Nat) (hx : A + 32 = x) (hy : D + 32 = y) (w : World) : Calls Try.prog 7 #[stV 0 0 0 0, .int .i32 u] w fun e w' => e = .returned (.agg (pM 0 ((⟨#[126, 123]⟩ : ByteArray) ++ str [b8 x, b8 y]) 1)) ∧ w.grownBy w' none := by
  have p0 : decide (0 ≤ u) = true := by simp; omega
  have p1 : decide (u < 128) = false := by simp; omega
  have p2 : (u == 126) = false := by simp; omega
  have q0 : decide (87 < (A : Int)) = false := by simp; omega
  have q1 : (A : Int) + 32 = (x : Int) := by omega
  have q2 : (D : Int) + 32 = (y : Int) := by omega
  have q3 : (x : Int) < 256 := by omega
  have q4 : (y : Int) < 256 := by omega
  clear hx hy
  go_enter Try.func7, Try.ntmps7
  go_upto_region 1 with (first
    | (refine wpList_boxC _ rfl 24 _ rfl (sC 0 0 0 0) rfl ?_; intro w1 ss1 hg1)
    | (refine wpList_allocC _ rfl 29 rfl (pZ 0 ⟨#[]⟩) (zeroP _) ?_; intro w2 rs2 hg2))
  have hG2 : Hid (w.grownBy w2 none) := Hid.mk' (gt hg1 hg2)
  have ss2 := ss1.kept0 hg2
  have hB2 : Hid (w.heap.size ≤ w1.heap.size) := Hid.mk' hg1.size
  clear hg1 hg2 ss1
  generalize w1.heap.size = B at *
  obtain ⟨SB, hSB⟩ : ∃ SB, Hid (w.heap.size = SB) := ⟨_, Hid.mk' rfl⟩
  rw [hSB.out] at ss2
  rw [hSB.out]
  have s0 := ss2.cell 0 rfl
  go_wp2_with (first
    | (go_at_call 5; refine (end_0 _).mono ?_; rintro e w3 ⟨rfl, hg⟩; have rs3 := rs2.kept0 hg; have ss3 := ss2.kept0 hg; have hG3 : Hid (w.grownBy w3 none) := Hid.mk' (gt hG2.out hg); clear s0; have s0 := ss3.cell 0 rfl; clear rs2 hg ss2)
    | (go_at_call 15; refine (C15.refPlace_any u _ A D true hP).mono ?_; rintro e w4 ⟨rfl, hg⟩; have rs4 := rs3.kept0 hg; have ss4 := ss3.kept0 hg; have hG4 : Hid (w.grownBy w4 none) := Hid.mk' (gt hG3.out hg); clear s0; have s0 := ss4.cell 0 rfl; clear rs3 hg ss3; have hcv := conv_two (show x < 256 by omega) (show y < 256 by omega) w4)
    | (refine wpList_loadC _ rfl 24 _ rfl _ Try.underlying24 rfl SB (sC 0 0 0 0) infoS rfl (by first | exact ss4 | exact ss3 | exact ss2) ?_)
    | (refine wpList_storeC _ rfl 29 _ _ rfl B (pZ 0 ⟨#[]⟩) (pM 0 ((⟨#[126, 123]⟩ : ByteArray) ++ str [b8 x, b8 y]) 1) infoP rfl (pC_one _ _ _ _ _ _) rfl rfl (rs4.kept0 (World.grownBy_alloc _ _ _)) ?_; intro wz rsz hgz))
  refine bodyPost_ret (v := .agg (pM 0 ((⟨#[126, 123]⟩ : ByteArray) ++ str [b8 x, b8 y]) 1)) (results_cell_row Try.results7 _ wz B 29 _ (0, 0) _ rfl rsz Try.underlying29 rfl infoP) rfl ⟨rfl, ?_⟩
  exact grownBy_new (gt hG4.out (World.grownBy_alloc _ _ _)) hgz (fun k hk => by have h5 := Option.some.inj hk; have h6 := hB2.out; omega)
set_option maxRecDepth 100000 in
set_option maxHeartbeats 1000000 in
theorem s_t1 (w : World) : Calls Try.prog 7 #[stV 1 0 0 0, .int .i32 126] w fun e w' => e = .returned (.agg (pM 0 ((⟨#[126, 125]⟩ : ByteArray) ++ (⟨#[126, 126]⟩ : ByteArray)) 0)) ∧ w.grownBy w' none := by
  go_enter Try.func7, Try.ntmps7
  go_upto_region 1 with (first
    | (refine wpList_boxC _ rfl 24 _ rfl (sC 1 0 0 0) rfl ?_; intro w1 ss1 hg1)
    | (refine wpList_allocC _ rfl 29 rfl (pZ 0 ⟨#[]⟩) (zeroP _) ?_; intro w2 rs2 hg2))
  have hG2 : Hid (w.grownBy w2 none) := Hid.mk' (gt hg1 hg2)
  have ss2 := ss1.kept0 hg2
  have hB2 : Hid (w.heap.size ≤ w1.heap.size) := Hid.mk' hg1.size
  clear hg1 hg2 ss1
  generalize w1.heap.size = B at *
  obtain ⟨SB, hSB⟩ : ∃ SB, Hid (w.heap.size = SB) := ⟨_, Hid.mk' rfl⟩
  rw [hSB.out] at ss2
  rw [hSB.out]
  have s0 := ss2.cell 0 rfl
  go_wp2_with (first
    | (go_at_call 5; refine (end_1 _).mono ?_; rintro e w3 ⟨rfl, hg⟩; have rs3 := rs2.kept0 hg; have ss3 := ss2.kept0 hg; have hG3 : Hid (w.grownBy w3 none) := Hid.mk' (gt hG2.out hg); clear s0; have s0 := ss3.cell 0 rfl; clear rs2 hg ss2)
    | (refine wpList_loadC _ rfl 24 _ rfl _ Try.underlying24 rfl SB (sC 1 0 0 0) infoS rfl (by first | exact ss3 | exact ss2) ?_)
    | (refine wpList_storeC _ rfl 29 _ _ rfl B (pZ 0 ⟨#[]⟩) (pM 0 ((⟨#[126, 125]⟩ : ByteArray) ++ (⟨#[126, 126]⟩ : ByteArray)) 0) infoP rfl (pC_one _ _ _ _ _ _) rfl rfl rs3 ?_; intro wz rsz hgz))
  refine bodyPost_ret (v := .agg (pM 0 ((⟨#[126, 125]⟩ : ByteArray) ++ (⟨#[126, 126]⟩ : ByteArray)) 0)) (results_cell_row Try.results7 _ wz B 29 _ (0, 0) _ rfl rsz Try.underlying29 rfl infoP) rfl ⟨rfl, ?_⟩
  exact grownBy_new hG3.out hgz (fun k hk => by have h5 := Option.some.inj hk; have h6 := hB2.out; omega)
set_option maxRecDepth 100000 in
set_option maxHeartbeats 1000000 in
theorem s_low1 (n : Nat) (hn : n < 128) (h6 : n ≠ 126) (w : World) : Calls Try.prog 7 #[stV 1 0 0 0, .int .i32 (n : Int)] w fun e w' => e = .returned (.agg (pM 0 ((⟨#[126, 125]⟩ : ByteArray) ++ str [b8 n]) 0)) ∧ w.grownBy w' none := by
  have p0 : decide (0 ≤ (n : Int)) = true := by simp
  have p1 : decide ((n : Int) < 128) = true := by simp; omega
  have p2 : (n : Int) < 256 := by omega
  have p3 : ((n : Int) == 126) = false := by simp; omega
  go_enter Try.func7, Try.ntmps7
  go_upto_region 1 with (first
    | (refine wpList_boxC _ rfl 24 _ rfl (sC 1 0 0 0) rfl ?_; intro w1 ss1 hg1)
    | (refine wpList_allocC _ rfl 29 rfl (pZ 0 ⟨#[]⟩) (zeroP _) ?_; intro w2 rs2 hg2))
  have hG2 : Hid (w.grownBy w2 none) := Hid.mk' (gt hg1 hg2)
  have ss2 := ss1.kept0 hg2
  have hB2 : Hid (w.heap.size ≤ w1.heap.size) := Hid.mk' hg1.size
  clear hg1 hg2 ss1
  generalize w1.heap.size = B at *
  obtain ⟨SB, hSB⟩ : ∃ SB, Hid (w.heap.size = SB) := ⟨_, Hid.mk' rfl⟩
  rw [hSB.out] at ss2
  rw [hSB.out]
  have s0 := ss2.cell 0 rfl
  go_wp2_with (first
    | (go_at_call 5; refine (end_1 _).mono ?_; rintro e w3 ⟨rfl, hg⟩; have rs3 := rs2.kept0 hg; have ss3 := ss2.kept0 hg; have hG3 : Hid (w.grownBy w3 none) := Hid.mk' (gt hG2.out hg); clear s0; have s0 := ss3.cell 0 rfl; clear rs2 hg ss2; have hcv := conv_one (show n < 256 by omega) w3)
    | (refine wpList_loadC _ rfl 24 _ rfl _ Try.underlying24 rfl SB (sC 1 0 0 0) infoS rfl (by first | exact ss3 | exact ss2) ?_)
    | (refine wpList_storeC _ rfl 29 _ _ rfl B (pZ 0 ⟨#[]⟩) (pM 0 ((⟨#[126, 125]⟩ : ByteArray) ++ str [b8 n]) 0) infoP rfl (pC_one _ _ _ _ _ _) rfl rfl (rs3.kept0 (World.grownBy_alloc _ _ _)) ?_; intro wz rsz hgz))
  refine bodyPost_ret (v := .agg (pM 0 ((⟨#[126, 125]⟩ : ByteArray) ++ str [b8 n]) 0)) (results_cell_row Try.results7 _ wz B 29 _ (0, 0) _ rfl rsz Try.underlying29 rfl infoP) rfl ⟨rfl, ?_⟩
  exact grownBy_new (gt hG3.out (World.grownBy_alloc _ _ _)) hgz (fun k hk => by have h5 := Option.some.inj hk; have h6 := hB2.out; omega)
set_option maxRecDepth 100000 in
set_option maxHeartbeats 1000000 in
theorem s_nonep1 (u : Int) (h1 : 128 ≤ u) (A D : Nat) (hP : Hid (C15.plT u = (A, D, false))) (w : World) : Calls Try.prog 7 #[stV 1 0 0 0, .int .i32 u] w fun e w' => e = .returned (.agg (pM 11 ⟨#[]⟩ 0)) ∧ w.grownBy w' none := by
  have p0 : decide (0 ≤ u) = true := by simp; omega
  have p1 : decide (u < 128) = false := by simp; omega
  have p2 : (u == 126) = false := by simp; omega
  go_enter Try.func7, Try.ntmps7
  go_upto_region 1 with (first
    | (refine wpList_boxC _ rfl 24 _ rfl (sC 1 0 0 0) rfl ?_; intro w1 ss1 hg1)
    | (refine wpList_allocC _ rfl 29 rfl (pZ 0 ⟨#[]⟩) (zeroP _) ?_; intro w2 rs2 hg2))
  have hG2 : Hid (w.grownBy w2 none) := Hid.mk' (gt hg1 hg2)
  have ss2 := ss1.kept0 hg2
  have hB2 : Hid (w.heap.size ≤ w1.heap.size) := Hid.mk' hg1.size
  clear hg1 hg2 ss1
  generalize w1.heap.size = B at *
  obtain ⟨SB, hSB⟩ : ∃ SB, Hid (w.heap.size = SB) := ⟨_, Hid.mk' rfl⟩
  rw [hSB.out] at ss2
  rw [hSB.out]
  have s0 := ss2.cell 0 rfl
  go_wp2_with (first
    | (go_at_call 5; refine (end_1 _).mono ?_; rintro e w3 ⟨rfl, hg⟩; have rs3 := rs2.kept0 hg; have ss3 := ss2.kept0 hg; have hG3 : Hid (w.grownBy w3 none) := Hid.mk' (gt hG2.out hg); clear s0; have s0 := ss3.cell 0 rfl; clear rs2 hg ss2)
    | (go_at_call 15; refine (C15.refPlace_any u _ A D false hP).mono ?_; rintro e w4 ⟨rfl, hg⟩; have rs4 := rs3.kept0 hg; have ss4 := ss3.kept0 hg; have hG4 : Hid (w.grownBy w4 none) := Hid.mk' (gt hG3.out hg); clear s0; have s0 := ss4.cell 0 rfl; clear rs3 hg ss3)
    | (refine wpList_loadC _ rfl 24 _ rfl _ Try.underlying24 rfl SB (sC 1 0 0 0) infoS rfl (by first | exact ss4 | exact ss3 | exact ss2) ?_)
    | (refine wpList_storeC _ rfl 29 _ _ rfl B (pZ 0 ⟨#[]⟩) (pM 11 ⟨#[]⟩ 0) infoP rfl (pC_one _ _ _ _ _ _) rfl rfl rs4 ?_; intro wz rsz hgz))
  refine bodyPost_ret (v := .agg (pM 11 ⟨#[]⟩ 0)) (results_cell_row Try.results7 _ wz B 29 _ (0, 0) _ rfl rsz Try.underlying29 rfl infoP) rfl ⟨rfl, ?_⟩
  exact grownBy_new hG4.out hgz (fun k hk => by have h5 := Option.some.inj hk; have h6 := hB2.out; omega)
set_option maxRecDepth 100000 in
set_option maxHeartbeats 1000000 in
theorem s_nonen1 (u : Int) (h1 : u < 0) (A D : Nat) (hP : Hid (C15.plT u = (A, D, false))) (w : World) : Calls Try.prog 7 #[stV 1 0 0 0, .int .i32 u] w fun e w' => e = .returned (.agg (pM 11 ⟨#[]⟩ 0)) ∧ w.grownBy w' none := by
  have p0 : decide (0 ≤ u) = false := by simp; omega
  have p2 : (u == 126) = false := by simp; omega
  go_enter Try.func7, Try.ntmps7
  go_upto_region 1 with (first
    | (refine wpList_boxC _ rfl 24 _ rfl (sC 1 0 0 0) rfl ?_; intro w1 ss1 hg1)
    | (refine wpList_allocC _ rfl 29 rfl (pZ 0 ⟨#[]⟩) (zeroP _) ?_; intro w2 rs2 hg2))
  have hG2 : Hid (w.grownBy w2 none) := Hid.mk' (gt hg1 hg2)
  have ss2 := ss1.kept0 hg2
  have hB2 : Hid (w.heap.size ≤ w1.heap.size) := Hid.mk' hg1.size
  clear hg1 hg2 ss1
  generalize w1.heap.size = B at *
  obtain ⟨SB, hSB⟩ : ∃ SB, Hid (w.heap.size = SB) := ⟨_, Hid.mk' rfl⟩
  rw [hSB.out] at ss2
  rw [hSB.out]
  have s0 := ss2.cell 0 rfl
  go_wp2_with (first
    | (go_at_call 5; refine (end_1 _).mono ?_; rintro e w3 ⟨rfl, hg⟩; have rs3 := rs2.kept0 hg; have ss3 := ss2.kept0 hg; have hG3 : Hid (w.grownBy w3 none) := Hid.mk' (gt hG2.out hg); clear s0; have s0 := ss3.cell 0 rfl; clear rs2 hg ss2)
    | (go_at_call 15; refine (C15.refPlace_any u _ A D false hP).mono ?_; rintro e w4 ⟨rfl, hg⟩; have rs4 := rs3.kept0 hg; have ss4 := ss3.kept0 hg; have hG4 : Hid (w.grownBy w4 none) := Hid.mk' (gt hG3.out hg); clear s0; have s0 := ss4.cell 0 rfl; clear rs3 hg ss3)
    | (refine wpList_loadC _ rfl 24 _ rfl _ Try.underlying24 rfl SB (sC 1 0 0 0) infoS rfl (by first | exact ss4 | exact ss3 | exact ss2) ?_)
    | (refine wpList_storeC _ rfl 29 _ _ rfl B (pZ 0 ⟨#[]⟩) (pM 11 ⟨#[]⟩ 0) infoP rfl (pC_one _ _ _ _ _ _) rfl rfl rs4 ?_; intro wz rsz hgz))
  refine bodyPost_ret (v := .agg (pM 11 ⟨#[]⟩ 0)) (results_cell_row Try.results7 _ wz B 29 _ (0, 0) _ rfl rsz Try.underlying29 rfl infoP) rfl ⟨rfl, ?_⟩
  exact grownBy_new hG4.out hgz (fun k hk => by have h5 := Option.some.inj hk; have h6 := hB2.out; omega)
set_option maxRecDepth 100000 in
set_option maxHeartbeats 1000000 in
theorem s_far1 (u : Int) (h1 : 128 ≤ u) (A D : Nat) (hA : 87 < A) (hP : Hid (C15.plT u = (A, D, true))) (w : World) : Calls Try.prog 7 #[stV 1 0 0 0, .int .i32 u] w fun e w' => e = .returned (.agg (pM 11 ⟨#[]⟩ 0)) ∧ w.grownBy w' none := by
  have p0 : decide (0 ≤ u) = true := by simp; omega
  have p1 : decide (u < 128) = false := by simp; omega
  have p2 : (u == 126) = false := by simp; omega
  have q1 : decide (87 < (A : Int)) = true := by simp; omega
  go_enter Try.func7, Try.ntmps7
  go_upto_region 1 with (first
    | (refine wpList_boxC _ rfl 24 _ rfl (sC 1 0 0 0) rfl ?_; intro w1 ss1 hg1)
    | (refine wpList_allocC _ rfl 29 rfl (pZ 0 ⟨#[]⟩) (zeroP _) ?_; intro w2 rs2 hg2))
  have hG2 : Hid (w.grownBy w2 none) := Hid.mk' (gt hg1 hg2)
  have ss2 := ss1.kept0 hg2
  have hB2 : Hid (w.heap.size ≤ w1.heap.size) := Hid.mk' hg1.size
  clear hg1 hg2 ss1
  generalize w1.heap.size = B at *
  obtain ⟨SB, hSB⟩ : ∃ SB, Hid (w.heap.size = SB) := ⟨_, Hid.mk' rfl⟩
  rw [hSB.out] at ss2
  rw [hSB.out]
  have s0 := ss2.cell 0 rfl
  go_wp2_with (first
    | (go_at_call 5; refine (end_1 _).mono ?_; rintro e w3 ⟨rfl, hg⟩; have rs3 := rs2.kept0 hg; have ss3 := ss2.kept0 hg; have hG3 : Hid (w.grownBy w3 none) := Hid.mk' (gt hG2.out hg); clear s0; have s0 := ss3.cell 0 rfl; clear rs2 hg ss2)
    | (go_at_call 15; refine (C15.refPlace_any u _ A D true hP).mono ?_; rintro e w4 ⟨rfl, hg⟩; have rs4 := rs3.kept0 hg; have ss4 := ss3.kept0 hg; have hG4 : Hid (w.grownBy w4 none) := Hid.mk' (gt hG3.out hg); clear s0; have s0 := ss4.cell 0 rfl; clear rs3 hg ss3)
    | (refine wpList_loadC _ rfl 24 _ rfl _ Try.underlying24 rfl SB (sC 1 0 0 0) infoS rfl (by first | exact ss4 | exact ss3 | exact ss2) ?_)
    | (refine wpList_storeC _ rfl 29 _ _ rfl B (pZ 0 ⟨#[]⟩) (pM 11 ⟨#[]⟩ 0) infoP rfl (pC_one _ _ _ _ _ _) rfl rfl rs4 ?_; intro wz rsz hgz))
  refine bodyPost_ret (v := .agg (pM 11 ⟨#[]⟩ 0)) (results_cell_row Try.results7 _ wz B 29 _ (0, 0) _ rfl rsz Try.underlying29 rfl infoP) rfl ⟨rfl, ?_⟩
  exact grownBy_new hG4.out hgz (fun k hk => by have h5 := Option.some.inj hk; have h6 := hB2.out; omega)
set_option maxRecDepth 100000 in
set_option maxHeartbeats 1000000 in
theorem s_place1 (u : Int) (h1 : 128 ≤ u) (A D : Nat) (hA : A ≤ 87) (hD : D ≤ 94) (hP : Hid (C15.plT u = (A, D, true))) (x y : Nat) (hx : A + 32 = x) (hy : D + 32 = y) (w : World) : Calls Try.prog 7 #[stV 1 0 0 0, .int .i32 u] w fun e w' => e = .returned (.agg (pM 0 ((⟨#[]⟩ : ByteArray) ++ str [b8 x, b8 y]) 1)) ∧ w.grownBy w' none := by
  have p0 : decide (0 ≤ u) = true := by simp; omega
  have p1 : decide (u < 128) = false := by simp; omega
  have p2 : (u == 126) = false := by simp; omega
  have q0 : decide (87 < (A : Int)) = false := by simp; omega
  have q1 : (A : Int) + 32 = (x : Int) := by omega
  have q2 : (D : Int) + 32 = (y : Int) := by omega
  have q3 : (x : Int) < 256 := by omega
  have q4 : (y : Int) < 256 := by omega
  clear hx hy
  go_enter Try.func7, Try.ntmps7
  go_upto_region 1 with (first
    | (refine wpList_boxC _ rfl 24 _ rfl (sC 1 0 0 0) rfl ?_; intro w1 ss1 hg1)
    | (refine wpList_allocC _ rfl 29 rfl (pZ 0 ⟨#[]⟩) (zeroP _) ?_; intro w2 rs2 hg2))
  have hG2 : Hid (w.grownBy w2 none) := Hid.mk' (gt hg1 hg2)
  have ss2 := ss1.kept0 hg2
  have hB2 : Hid (w.heap.size ≤ w1.heap.size) := Hid.mk' hg1.size
  clear hg1 hg2 ss1
  generalize w1.heap.size = B at *
  obtain ⟨SB, hSB⟩ : ∃ SB, Hid (w.heap.size = SB) := ⟨_, Hid.mk' rfl⟩
  rw [hSB.out] at ss2
  rw [hSB.out]
  have s0 := ss2.cell 0 rfl
  go_wp2_with (first
    | (go_at_call 5; refine (end_1 _).mono ?_; rintro e w3 ⟨rfl, hg⟩; have rs3 := rs2.kept0 hg; have ss3 := ss2.kept0 hg; have hG3 : Hid (w.grownBy w3 none) := Hid.mk' (gt hG2.out hg); clear s0; have s0 := ss3.cell 0 rfl; clear rs2 hg ss2)
    | (go_at_call 15; refine (C15.refPlace_any u _ A D true hP).mono ?_; rintro e w4 ⟨rfl, hg⟩; have rs4 := rs3.kept0 hg; have ss4 := ss3.kept0 hg; have hG4 : Hid (w.grownBy w4 none) := Hid.mk' (gt hG3.out hg); clear s0; have s0 := ss4.cell 0 rfl; clear rs3 hg ss3; have hcv := conv_two (show x < 256 by omega) (show y < 256 by omega) w4)
    | (refine wpList_loadC _ rfl 24 _ rfl _ Try.underlying24 rfl SB (sC 1 0 0 0) infoS rfl (by first | exact ss4 | exact ss3 | exact ss2) ?_)
    | (refine wpList_storeC _ rfl 29 _ _ rfl B (pZ 0 ⟨#[]⟩) (pM 0 ((⟨#[]⟩ : ByteArray) ++ str [b8 x, b8 y]) 1) infoP rfl (pC_one _ _ _ _ _ _) rfl rfl (rs4.kept0 (World.grownBy_alloc _ _ _)) ?_; intro wz rsz hgz))
  refine bodyPost_ret (v := .agg (pM 0 ((⟨#[]⟩ : ByteArray) ++ str [b8 x, b8 y]) 1)) (results_cell_row Try.results7 _ wz B 29 _ (0, 0) _ rfl rsz Try.underlying29 rfl infoP) rfl ⟨rfl, ?_⟩
  exact grownBy_new (gt hG4.out (World.grownBy_alloc _ _ _)) hgz (fun k hk => by have h5 := Option.some.inj hk; have h6 := hB2.out; omega)
theorem str_app (a b : List UInt8) : str a ++ str b = str (a ++ b) := by
  apply ByteArray.ext
  simp [str]
theorem set_0 (u : Int) (w : World) : Calls Try.prog 7 #[stV 0 0 0 0, .int .i32 u] w fun e w' => e = .returned (putV (sE 0 u)) ∧ w.grownBy w' none := by
  unfold sE
  rw [if_pos (by omega)]
  by_cases h1 : u = 126
  · subst h1
    rw [if_pos rfl]
    exact s_t0 w
  · rw [if_neg h1]
    by_cases h2 : 0 ≤ u ∧ u < 128
    · rw [if_pos h2]
      obtain ⟨n, rfl⟩ : ∃ n : Nat, u = (n : Int) := ⟨u.toNat, by omega⟩
      rw [Int.toNat_natCast]
      have := s_low0 n (by omega) (by omega) w
      refine this.mono (fun e w' h => ⟨h.1.trans ?_, h.2⟩)
      unfold putV
      simp only
      rw [← str_app]
      rfl
    · rw [if_neg h2]
      cases ep : C15.plT u with
      | mk A q =>
      obtain ⟨D, ok⟩ := q
      have h0 : ¬ 0 ≤ u → ok = false := fun h => by
        cases ok with
        | false => rfl
        | true =>
          obtain ⟨r1, r2, c1, c2, u0, he⟩ := C15.place_back ep
          exact absurd u0 h
      cases ok with
      | false =>
        by_cases h3 : 0 ≤ u
        · exact s_nonep0 u (by omega) A D (Hid.mk' ep) w
        · exact s_nonen0 u (by omega) A D (Hid.mk' ep) w
      | true =>
        have h3 : 0 ≤ u := Decidable.byContradiction (fun h => by cases h0 h)
        obtain ⟨r1, r2, c1, c2, u0, he⟩ := C15.place_back ep
        simp only
        by_cases h4 : 87 < A
        · rw [if_pos h4]
          exact s_far0 u (by omega) A D h4 (Hid.mk' ep) w
        · rw [if_neg h4]
          have := s_place0 u (by omega) A D (by omega) c2 (Hid.mk' ep) _ _ rfl rfl w
          refine this.mono (fun e w' h => ⟨h.1.trans ?_, h.2⟩)
          unfold putV
          simp only
          rw [← str_app]
          rfl
theorem set_1 (u : Int) (w : World) : Calls Try.prog 7 #[stV 1 0 0 0, .int .i32 u] w fun e w' => e = .returned (putV (sE 1 u)) ∧ w.grownBy w' none := by
  unfold sE
  rw [if_pos (by omega)]
  by_cases h1 : u = 126
  · subst h1
    rw [if_pos rfl]
    exact s_t1 w
  · rw [if_neg h1]
    by_cases h2 : 0 ≤ u ∧ u < 128
    · rw [if_pos h2]
      obtain ⟨n, rfl⟩ : ∃ n : Nat, u = (n : Int) := ⟨u.toNat, by omega⟩
      rw [Int.toNat_natCast]
      have := s_low1 n (by omega) (by omega) w
      refine this.mono (fun e w' h => ⟨h.1.trans ?_, h.2⟩)
      unfold putV
      simp only
      rw [← str_app]
      rfl
    · rw [if_neg h2]
      cases ep : C15.plT u with
      | mk A q =>
      obtain ⟨D, ok⟩ := q
      have h0 : ¬ 0 ≤ u → ok = false := fun h => by
        cases ok with
        | false => rfl
        | true =>
          obtain ⟨r1, r2, c1, c2, u0, he⟩ := C15.place_back ep
          exact absurd u0 h
      cases ok with
      | false =>
        by_cases h3 : 0 ≤ u
        · exact s_nonep1 u (by omega) A D (Hid.mk' ep) w
        · exact s_nonen1 u (by omega) A D (Hid.mk' ep) w
      | true =>
        have h3 : 0 ≤ u := Decidable.byContradiction (fun h => by cases h0 h)
        obtain ⟨r1, r2, c1, c2, u0, he⟩ := C15.place_back ep
        simp only
        by_cases h4 : 87 < A
        · rw [if_pos h4]
          exact s_far1 u (by omega) A D h4 (Hid.mk' ep) w
        · rw [if_neg h4]
          have := s_place1 u (by omega) A D (by omega) c2 (Hid.mk' ep) _ _ rfl rfl w
          refine this.mono (fun e w' h => ⟨h.1.trans ?_, h.2⟩)
          unfold putV
          simp only
          rw [← str_app]
          rfl
theorem setRef_any (md bi ac he u : Int) (w : World) : Calls Try.prog 7 #[stV md bi ac he, .int .i32 u] w fun e w' => e = .returned (putV (sE (mo md bi ac he) u)) ∧ w.grownBy w' none := by
  obtain ⟨m, hm⟩ : ∃ m, mo md bi ac he = m := ⟨_, rfl⟩
  have hl := mo_le md bi ac he
  rw [hm] at hl ⊢
  by_cases h2 : m = 2
  · subst h2
    exact s_no md bi ac he u (Hid.mk' hm) w
  · obtain ⟨rfl, rfl, rfl, rfl⟩ := mo_fit hm (by omega)
    by_cases h0 : m = 0
    · subst h0
      exact set_0 u w
    · obtain rfl : m = 1 := by omega
      exact set_1 u w
end Go.Proofs.Ytpkhkeamnfoekaa.C20
