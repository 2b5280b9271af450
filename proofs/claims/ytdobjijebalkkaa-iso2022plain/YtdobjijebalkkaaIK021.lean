/- The document's korean of layer 21 in Mode 0: walks, a way each. -/
import Derived.Test.YtdobjijebalkkaaIS21
namespace Go.Proofs.Ytdobjijebalkkaa.C21
open Go.ChangeShapes Go.WideShapes Go.ChangeAt Go.RowKit Go.Proofs.Ytdobjijebalkkaa.Mem Go.Proofs.Ytdobjijebalkkaa.Cb Go.Proofs.Ytdobjijebalkkaa.Sp
set_option linter.unusedVariables false
set_option linter.unusedSimpArgs false

set_option maxRecDepth 100000 in
set_option maxHeartbeats 1000000 in
theorem k_head0 (w : World) (g o len cap : Nat) (s : ByteArray) (hl1 : 0 < len) (hl2 : len ≤ cap) (hl3 : cap ≤ 9223372036854775807) (hyc : Hid (∀ wx, w.grownBy wx none → (convert 25 9 (.slice (some ⟨g, o, none⟩) len cap)).run Try.prog wx = .ok (.string s) wx)) (aB1 : Hid (∀ wx, Calls Try.prog 41 #[.string s, .string ⟨#[27, 36, 41, 67]⟩] wx fun e w' => e = .returned (.bool true) ∧ wx.grownBy w' none)) : Calls Try.prog 26 #[stV 0 0 0 0, .slice (some ⟨g, o, none⟩) len cap] w fun e w' => e = .returned (.agg (gM 0 4 0 0 1)) ∧ w.grownBy w' none := by
  go_enter Try.func26, Try.ntmps26
  go_upto_region 1 with (first
    | (refine wpList_boxC _ rfl 24 _ rfl (sC 0 0 0 0) rfl ?_; intro w1 ss1 hg1)
    | (refine wpList_allocC _ rfl 28 rfl (gZ 0 0 0 0) (zeroG _) ?_; intro w2 rs2 hg2))
  have hG2 : Hid (w.grownBy w2 none) := Hid.mk' (gt hg1 hg2)
  have ss2 := ss1.kept0 hg2
  have hB2 : Hid (w.heap.size ≤ w1.heap.size) := Hid.mk' hg1.size
  clear hg1 hg2 ss1
  generalize w1.heap.size = B at *
  obtain ⟨SB, hSB⟩ : ∃ SB, Hid (w.heap.size = SB) := ⟨_, Hid.mk' rfl⟩
  rw [hSB.out] at ss2
  rw [hSB.out]
  have yc := hyc.out _ hG2.out; have s0 := ss2.cell 0 rfl
  go_wp2_with (first
    | (go_at_call 41; refine (aB1.out _).mono ?_; rintro e w3 ⟨rfl, hg⟩; have rs3 := rs2.kept0 hg; have ss3 := ss2.kept0 hg; have hG3 : Hid (w.grownBy w3 none) := Hid.mk' (gt hG2.out hg); clear yc s0; have yc := hyc.out _ hG3.out; have s0 := ss3.cell 0 rfl; clear rs2 hg ss2)
    | (refine wpList_loadC _ rfl 24 _ rfl _ Try.underlying24 rfl SB (sC 0 0 0 0) infoS rfl (by first | exact ss3 | exact ss2) ?_)
    | (refine wpList_storeC _ rfl 28 _ _ rfl B (gZ 0 0 0 0) (gM 0 4 0 0 1) infoG rfl (gC_one _ _ _ _ _ _ _ _ _) rfl rfl rs3 ?_; intro wz rsz hgz))
  refine bodyPost_ret (v := .agg (gM 0 4 0 0 1)) (results_cell_row Try.results26 _ wz B 28 _ (0, 0) _ rfl rsz Try.underlying28 rfl infoG) rfl ⟨rfl, ?_⟩
  exact grownBy_new hG3.out hgz (fun k hk => by have h5 := Option.some.inj hk; have h6 := hB2.out; omega)
set_option maxRecDepth 100000 in
set_option maxHeartbeats 1000000 in
theorem k_more0 (w : World) (g o len cap : Nat) (s : ByteArray) (hl1 : 0 < len) (hl2 : len ≤ cap) (hl3 : cap ≤ 9223372036854775807) (hyc : Hid (∀ wx, w.grownBy wx none → (convert 25 9 (.slice (some ⟨g, o, none⟩) len cap)).run Try.prog wx = .ok (.string s) wx)) (h4 : len < 4) (aB1 : Hid (∀ wx, Calls Try.prog 41 #[.string s, .string ⟨#[27, 36, 41, 67]⟩] wx fun e w' => e = .returned (.bool false) ∧ wx.grownBy w' none)) (aB2 : Hid (∀ wx, Calls Try.prog 41 #[.string ⟨#[27, 36, 41, 67]⟩, .string s] wx fun e w' => e = .returned (.bool true) ∧ wx.grownBy w' none)) : Calls Try.prog 26 #[stV 0 0 0 0, .slice (some ⟨g, o, none⟩) len cap] w fun e w' => e = .returned (.agg (gM 1 0 0 0 0)) ∧ w.grownBy w' none := by
  have f0 : decide ((len : Int) < 4) = true := by simp; omega
  go_enter Try.func26, Try.ntmps26
  go_upto_region 1 with (first
    | (refine wpList_boxC _ rfl 24 _ rfl (sC 0 0 0 0) rfl ?_; intro w1 ss1 hg1)
    | (refine wpList_allocC _ rfl 28 rfl (gZ 0 0 0 0) (zeroG _) ?_; intro w2 rs2 hg2))
  have hG2 : Hid (w.grownBy w2 none) := Hid.mk' (gt hg1 hg2)
  have ss2 := ss1.kept0 hg2
  have hB2 : Hid (w.heap.size ≤ w1.heap.size) := Hid.mk' hg1.size
  clear hg1 hg2 ss1
  generalize w1.heap.size = B at *
  obtain ⟨SB, hSB⟩ : ∃ SB, Hid (w.heap.size = SB) := ⟨_, Hid.mk' rfl⟩
  rw [hSB.out] at ss2
  rw [hSB.out]
  have yc := hyc.out _ hG2.out; have s0 := ss2.cell 0 rfl
  go_upto_region 3 with (go_at_call 41; refine (aB1.out _).mono ?_; rintro e w3 ⟨rfl, hg⟩; have rs3 := rs2.kept0 hg; have ss3 := ss2.kept0 hg; have hG3 : Hid (w.grownBy w3 none) := Hid.mk' (gt hG2.out hg); clear yc s0; have yc := hyc.out _ hG3.out; have s0 := ss3.cell 0 rfl; clear rs2 hg ss2)
  go_upto_region 4 with (go_at_call 41; refine (aB2.out _).mono ?_; rintro e w4 ⟨rfl, hg⟩; have rs4 := rs3.kept0 hg; have ss4 := ss3.kept0 hg; have hG4 : Hid (w.grownBy w4 none) := Hid.mk' (gt hG3.out hg); clear yc s0; have yc := hyc.out _ hG4.out; have s0 := ss4.cell 0 rfl; clear rs3 hg ss3)
  go_wp2_with (first
    | (refine wpList_loadC _ rfl 24 _ rfl _ Try.underlying24 rfl SB (sC 0 0 0 0) infoS rfl (by first | exact ss4 | exact ss3 | exact ss2) ?_)
    | (refine wpList_storeC _ rfl 28 _ _ rfl B (gZ 0 0 0 0) (gM 1 0 0 0 0) infoG rfl (gC_one _ _ _ _ _ _ _ _ _) rfl rfl rs4 ?_; intro wz rsz hgz))
  refine bodyPost_ret (v := .agg (gM 1 0 0 0 0)) (results_cell_row Try.results26 _ wz B 28 _ (0, 0) _ rfl rsz Try.underlying28 rfl infoG) rfl ⟨rfl, ?_⟩
  exact grownBy_new hG4.out hgz (fun k hk => by have h5 := Option.some.inj hk; have h6 := hB2.out; omega)
set_option maxRecDepth 100000 in
set_option maxHeartbeats 1000000 in
theorem k_i270a (w : World) (g o len cap : Nat) (s : ByteArray) (hl1 : 0 < len) (hl2 : len ≤ cap) (hl3 : cap ≤ 9223372036854775807) (hyc : Hid (∀ wx, w.grownBy wx none → (convert 25 9 (.slice (some ⟨g, o, none⟩) len cap)).run Try.prog wx = .ok (.string s) wx)) (b : Nat) (h27 : b = 27) (hy0 : Hid (∀ wx, w.grownBy wx none → wx.cell? ⟨g, o, none⟩ = some (.int .u8 (b : Int)))) (aB1 : Hid (∀ wx, Calls Try.prog 41 #[.string s, .string ⟨#[27, 36, 41, 67]⟩] wx fun e w' => e = .returned (.bool false) ∧ wx.grownBy w' none)) (h4 : ¬ len < 4) : Calls Try.prog 26 #[stV 0 0 0 0, .slice (some ⟨g, o, none⟩) len cap] w fun e w' => e = .returned (.agg (gM 10 1 0 0 0)) ∧ w.grownBy w' none := by
  have f0 : ((b : Int) == 27) = true := by simp; omega
  have f1 : ((b : Int) == 14) = false := by simp; omega
  have f2 : ((b : Int) == 15) = false := by simp; omega
  have fl : decide ((len : Int) < 4) = false := by simp; omega
  clear h27
  go_enter Try.func26, Try.ntmps26
  go_upto_region 1 with (first
    | (refine wpList_boxC _ rfl 24 _ rfl (sC 0 0 0 0) rfl ?_; intro w1 ss1 hg1)
    | (refine wpList_allocC _ rfl 28 rfl (gZ 0 0 0 0) (zeroG _) ?_; intro w2 rs2 hg2))
  have hG2 : Hid (w.grownBy w2 none) := Hid.mk' (gt hg1 hg2)
  have ss2 := ss1.kept0 hg2
  have hB2 : Hid (w.heap.size ≤ w1.heap.size) := Hid.mk' hg1.size
  clear hg1 hg2 ss1
  generalize w1.heap.size = B at *
  obtain ⟨SB, hSB⟩ : ∃ SB, Hid (w.heap.size = SB) := ⟨_, Hid.mk' rfl⟩
  rw [hSB.out] at ss2
  rw [hSB.out]
  have yc := hyc.out _ hG2.out; have y0 := hy0.out _ hG2.out; have s0 := ss2.cell 0 rfl
  go_upto_region 3 with (go_at_call 41; refine (aB1.out _).mono ?_; rintro e w3 ⟨rfl, hg⟩; have rs3 := rs2.kept0 hg; have ss3 := ss2.kept0 hg; have hG3 : Hid (w.grownBy w3 none) := Hid.mk' (gt hG2.out hg); clear yc y0 s0; have yc := hyc.out _ hG3.out; have y0 := hy0.out _ hG3.out; have s0 := ss3.cell 0 rfl; clear rs2 hg ss2)
  go_upto_region 5 with fail
  clear yc fl h4 aB1
  go_upto_region 8 with fail
  go_wp2_with (first
    | (refine wpList_loadC _ rfl 24 _ rfl _ Try.underlying24 rfl SB (sC 0 0 0 0) infoS rfl (by first | exact ss3 | exact ss2) ?_)
    | (refine wpList_storeC _ rfl 28 _ _ rfl B (gZ 0 0 0 0) (gM 10 1 0 0 0) infoG rfl (gC_one _ _ _ _ _ _ _ _ _) rfl rfl rs3 ?_; intro wz rsz hgz))
  refine bodyPost_ret (v := .agg (gM 10 1 0 0 0)) (results_cell_row Try.results26 _ wz B 28 _ (0, 0) _ rfl rsz Try.underlying28 rfl infoG) rfl ⟨rfl, ?_⟩
  exact grownBy_new hG3.out hgz (fun k hk => by have h5 := Option.some.inj hk; have h6 := hB2.out; omega)
set_option maxRecDepth 100000 in
set_option maxHeartbeats 1000000 in
theorem k_i270b (w : World) (g o len cap : Nat) (s : ByteArray) (hl1 : 0 < len) (hl2 : len ≤ cap) (hl3 : cap ≤ 9223372036854775807) (hyc : Hid (∀ wx, w.grownBy wx none → (convert 25 9 (.slice (some ⟨g, o, none⟩) len cap)).run Try.prog wx = .ok (.string s) wx)) (b : Nat) (h27 : b = 27) (hy0 : Hid (∀ wx, w.grownBy wx none → wx.cell? ⟨g, o, none⟩ = some (.int .u8 (b : Int)))) (aB1 : Hid (∀ wx, Calls Try.prog 41 #[.string s, .string ⟨#[27, 36, 41, 67]⟩] wx fun e w' => e = .returned (.bool false) ∧ wx.grownBy w' none)) (h4 : len < 4) (aB2 : Hid (∀ wx, Calls Try.prog 41 #[.string ⟨#[27, 36, 41, 67]⟩, .string s] wx fun e w' => e = .returned (.bool false) ∧ wx.grownBy w' none)) : Calls Try.prog 26 #[stV 0 0 0 0, .slice (some ⟨g, o, none⟩) len cap] w fun e w' => e = .returned (.agg (gM 10 1 0 0 0)) ∧ w.grownBy w' none := by
  have f0 : ((b : Int) == 27) = true := by simp; omega
  have f1 : ((b : Int) == 14) = false := by simp; omega
  have f2 : ((b : Int) == 15) = false := by simp; omega
  have fl : decide ((len : Int) < 4) = true := by simp; omega
  clear h27
  go_enter Try.func26, Try.ntmps26
  go_upto_region 1 with (first
    | (refine wpList_boxC _ rfl 24 _ rfl (sC 0 0 0 0) rfl ?_; intro w1 ss1 hg1)
    | (refine wpList_allocC _ rfl 28 rfl (gZ 0 0 0 0) (zeroG _) ?_; intro w2 rs2 hg2))
  have hG2 : Hid (w.grownBy w2 none) := Hid.mk' (gt hg1 hg2)
  have ss2 := ss1.kept0 hg2
  have hB2 : Hid (w.heap.size ≤ w1.heap.size) := Hid.mk' hg1.size
  clear hg1 hg2 ss1
  generalize w1.heap.size = B at *
  obtain ⟨SB, hSB⟩ : ∃ SB, Hid (w.heap.size = SB) := ⟨_, Hid.mk' rfl⟩
  rw [hSB.out] at ss2
  rw [hSB.out]
  have yc := hyc.out _ hG2.out; have y0 := hy0.out _ hG2.out; have s0 := ss2.cell 0 rfl
  go_upto_region 3 with (go_at_call 41; refine (aB1.out _).mono ?_; rintro e w3 ⟨rfl, hg⟩; have rs3 := rs2.kept0 hg; have ss3 := ss2.kept0 hg; have hG3 : Hid (w.grownBy w3 none) := Hid.mk' (gt hG2.out hg); clear yc y0 s0; have yc := hyc.out _ hG3.out; have y0 := hy0.out _ hG3.out; have s0 := ss3.cell 0 rfl; clear rs2 hg ss2)
  go_upto_region 5 with (go_at_call 41; refine (aB2.out _).mono ?_; rintro e w4 ⟨rfl, hg⟩; have rs4 := rs3.kept0 hg; have ss4 := ss3.kept0 hg; have hG4 : Hid (w.grownBy w4 none) := Hid.mk' (gt hG3.out hg); clear yc y0 s0; have yc := hyc.out _ hG4.out; have y0 := hy0.out _ hG4.out; have s0 := ss4.cell 0 rfl; clear rs3 hg ss3)
  clear yc fl h4 aB1 aB2
  go_upto_region 8 with fail
  go_wp2_with (first
    | (refine wpList_loadC _ rfl 24 _ rfl _ Try.underlying24 rfl SB (sC 0 0 0 0) infoS rfl (by first | exact ss4 | exact ss3 | exact ss2) ?_)
    | (refine wpList_storeC _ rfl 28 _ _ rfl B (gZ 0 0 0 0) (gM 10 1 0 0 0) infoG rfl (gC_one _ _ _ _ _ _ _ _ _) rfl rfl rs4 ?_; intro wz rsz hgz))
  refine bodyPost_ret (v := .agg (gM 10 1 0 0 0)) (results_cell_row Try.results26 _ wz B 28 _ (0, 0) _ rfl rsz Try.underlying28 rfl infoG) rfl ⟨rfl, ?_⟩
  exact grownBy_new hG4.out hgz (fun k hk => by have h5 := Option.some.inj hk; have h6 := hB2.out; omega)
set_option maxRecDepth 100000 in
set_option maxHeartbeats 1000000 in
theorem k_i80a (w : World) (g o len cap : Nat) (s : ByteArray) (hl1 : 0 < len) (hl2 : len ≤ cap) (hl3 : cap ≤ 9223372036854775807) (hyc : Hid (∀ wx, w.grownBy wx none → (convert 25 9 (.slice (some ⟨g, o, none⟩) len cap)).run Try.prog wx = .ok (.string s) wx)) (b : Nat) (h8 : 128 ≤ b) (hy0 : Hid (∀ wx, w.grownBy wx none → wx.cell? ⟨g, o, none⟩ = some (.int .u8 (b : Int)))) (aB1 : Hid (∀ wx, Calls Try.prog 41 #[.string s, .string ⟨#[27, 36, 41, 67]⟩] wx fun e w' => e = .returned (.bool false) ∧ wx.grownBy w' none)) (h4 : ¬ len < 4) : Calls Try.prog 26 #[stV 0 0 0 0, .slice (some ⟨g, o, none⟩) len cap] w fun e w' => e = .returned (.agg (gM 10 1 0 0 0)) ∧ w.grownBy w' none := by
  have f0 : ((b : Int) == 27) = false := by simp; omega
  have f1 : decide ((128 : Int) ≤ (b : Int)) = true := by simp; omega
  have f2 : ((b : Int) == 14) = false := by simp; omega
  have f3 : ((b : Int) == 15) = false := by simp; omega
  have fl : decide ((len : Int) < 4) = false := by simp; omega
  go_enter Try.func26, Try.ntmps26
  go_upto_region 1 with (first
    | (refine wpList_boxC _ rfl 24 _ rfl (sC 0 0 0 0) rfl ?_; intro w1 ss1 hg1)
    | (refine wpList_allocC _ rfl 28 rfl (gZ 0 0 0 0) (zeroG _) ?_; intro w2 rs2 hg2))
  have hG2 : Hid (w.grownBy w2 none) := Hid.mk' (gt hg1 hg2)
  have ss2 := ss1.kept0 hg2
  have hB2 : Hid (w.heap.size ≤ w1.heap.size) := Hid.mk' hg1.size
  clear hg1 hg2 ss1
  generalize w1.heap.size = B at *
  obtain ⟨SB, hSB⟩ : ∃ SB, Hid (w.heap.size = SB) := ⟨_, Hid.mk' rfl⟩
  rw [hSB.out] at ss2
  rw [hSB.out]
  have yc := hyc.out _ hG2.out; have y0 := hy0.out _ hG2.out; have s0 := ss2.cell 0 rfl
  go_upto_region 3 with (go_at_call 41; refine (aB1.out _).mono ?_; rintro e w3 ⟨rfl, hg⟩; have rs3 := rs2.kept0 hg; have ss3 := ss2.kept0 hg; have hG3 : Hid (w.grownBy w3 none) := Hid.mk' (gt hG2.out hg); clear yc y0 s0; have yc := hyc.out _ hG3.out; have y0 := hy0.out _ hG3.out; have s0 := ss3.cell 0 rfl; clear rs2 hg ss2)
  go_upto_region 5 with fail
  clear yc fl h4 aB1
  go_upto_region 8 with fail
  go_wp2_with (first
    | (refine wpList_loadC _ rfl 24 _ rfl _ Try.underlying24 rfl SB (sC 0 0 0 0) infoS rfl (by first | exact ss3 | exact ss2) ?_)
    | (refine wpList_storeC _ rfl 28 _ _ rfl B (gZ 0 0 0 0) (gM 10 1 0 0 0) infoG rfl (gC_one _ _ _ _ _ _ _ _ _) rfl rfl rs3 ?_; intro wz rsz hgz))
  refine bodyPost_ret (v := .agg (gM 10 1 0 0 0)) (results_cell_row Try.results26 _ wz B 28 _ (0, 0) _ rfl rsz Try.underlying28 rfl infoG) rfl ⟨rfl, ?_⟩
  exact grownBy_new hG3.out hgz (fun k hk => by have h5 := Option.some.inj hk; have h6 := hB2.out; omega)
set_option maxRecDepth 100000 in
set_option maxHeartbeats 1000000 in
theorem k_i80b (w : World) (g o len cap : Nat) (s : ByteArray) (hl1 : 0 < len) (hl2 : len ≤ cap) (hl3 : cap ≤ 9223372036854775807) (hyc : Hid (∀ wx, w.grownBy wx none → (convert 25 9 (.slice (some ⟨g, o, none⟩) len cap)).run Try.prog wx = .ok (.string s) wx)) (b : Nat) (h8 : 128 ≤ b) (hy0 : Hid (∀ wx, w.grownBy wx none → wx.cell? ⟨g, o, none⟩ = some (.int .u8 (b : Int)))) (aB1 : Hid (∀ wx, Calls Try.prog 41 #[.string s, .string ⟨#[27, 36, 41, 67]⟩] wx fun e w' => e = .returned (.bool false) ∧ wx.grownBy w' none)) (h4 : len < 4) (aB2 : Hid (∀ wx, Calls Try.prog 41 #[.string ⟨#[27, 36, 41, 67]⟩, .string s] wx fun e w' => e = .returned (.bool false) ∧ wx.grownBy w' none)) : Calls Try.prog 26 #[stV 0 0 0 0, .slice (some ⟨g, o, none⟩) len cap] w fun e w' => e = .returned (.agg (gM 10 1 0 0 0)) ∧ w.grownBy w' none := by
  have f0 : ((b : Int) == 27) = false := by simp; omega
  have f1 : decide ((128 : Int) ≤ (b : Int)) = true := by simp; omega
  have f2 : ((b : Int) == 14) = false := by simp; omega
  have f3 : ((b : Int) == 15) = false := by simp; omega
  have fl : decide ((len : Int) < 4) = true := by simp; omega
  go_enter Try.func26, Try.ntmps26
  go_upto_region 1 with (first
    | (refine wpList_boxC _ rfl 24 _ rfl (sC 0 0 0 0) rfl ?_; intro w1 ss1 hg1)
    | (refine wpList_allocC _ rfl 28 rfl (gZ 0 0 0 0) (zeroG _) ?_; intro w2 rs2 hg2))
  have hG2 : Hid (w.grownBy w2 none) := Hid.mk' (gt hg1 hg2)
  have ss2 := ss1.kept0 hg2
  have hB2 : Hid (w.heap.size ≤ w1.heap.size) := Hid.mk' hg1.size
  clear hg1 hg2 ss1
  generalize w1.heap.size = B at *
  obtain ⟨SB, hSB⟩ : ∃ SB, Hid (w.heap.size = SB) := ⟨_, Hid.mk' rfl⟩
  rw [hSB.out] at ss2
  rw [hSB.out]
  have yc := hyc.out _ hG2.out; have y0 := hy0.out _ hG2.out; have s0 := ss2.cell 0 rfl
  go_upto_region 3 with (go_at_call 41; refine (aB1.out _).mono ?_; rintro e w3 ⟨rfl, hg⟩; have rs3 := rs2.kept0 hg; have ss3 := ss2.kept0 hg; have hG3 : Hid (w.grownBy w3 none) := Hid.mk' (gt hG2.out hg); clear yc y0 s0; have yc := hyc.out _ hG3.out; have y0 := hy0.out _ hG3.out; have s0 := ss3.cell 0 rfl; clear rs2 hg ss2)
  go_upto_region 5 with (go_at_call 41; refine (aB2.out _).mono ?_; rintro e w4 ⟨rfl, hg⟩; have rs4 := rs3.kept0 hg; have ss4 := ss3.kept0 hg; have hG4 : Hid (w.grownBy w4 none) := Hid.mk' (gt hG3.out hg); clear yc y0 s0; have yc := hyc.out _ hG4.out; have y0 := hy0.out _ hG4.out; have s0 := ss4.cell 0 rfl; clear rs3 hg ss3)
  clear yc fl h4 aB1 aB2
  go_upto_region 8 with fail
  go_wp2_with (first
    | (refine wpList_loadC _ rfl 24 _ rfl _ Try.underlying24 rfl SB (sC 0 0 0 0) infoS rfl (by first | exact ss4 | exact ss3 | exact ss2) ?_)
    | (refine wpList_storeC _ rfl 28 _ _ rfl B (gZ 0 0 0 0) (gM 10 1 0 0 0) infoG rfl (gC_one _ _ _ _ _ _ _ _ _) rfl rfl rs4 ?_; intro wz rsz hgz))
  refine bodyPost_ret (v := .agg (gM 10 1 0 0 0)) (results_cell_row Try.results26 _ wz B 28 _ (0, 0) _ rfl rsz Try.underlying28 rfl infoG) rfl ⟨rfl, ?_⟩
  exact grownBy_new hG4.out hgz (fun k hk => by have h5 := Option.some.inj hk; have h6 := hB2.out; omega)
set_option maxRecDepth 100000 in
set_option maxHeartbeats 1000000 in
theorem k_i140a (w : World) (g o len cap : Nat) (s : ByteArray) (hl1 : 0 < len) (hl2 : len ≤ cap) (hl3 : cap ≤ 9223372036854775807) (hyc : Hid (∀ wx, w.grownBy wx none → (convert 25 9 (.slice (some ⟨g, o, none⟩) len cap)).run Try.prog wx = .ok (.string s) wx)) (b : Nat) (h14 : b = 14) (hy0 : Hid (∀ wx, w.grownBy wx none → wx.cell? ⟨g, o, none⟩ = some (.int .u8 (b : Int)))) (aB1 : Hid (∀ wx, Calls Try.prog 41 #[.string s, .string ⟨#[27, 36, 41, 67]⟩] wx fun e w' => e = .returned (.bool false) ∧ wx.grownBy w' none)) (h4 : ¬ len < 4) : Calls Try.prog 26 #[stV 0 0 0 0, .slice (some ⟨g, o, none⟩) len cap] w fun e w' => e = .returned (.agg (gM 10 1 0 0 0)) ∧ w.grownBy w' none := by
  have f0 : ((b : Int) == 27) = false := by simp; omega
  have f1 : decide ((128 : Int) ≤ (b : Int)) = false := by simp; omega
  have f2 : ((b : Int) == 14) = true := by simp; omega
  have f3 : ((b : Int) == 15) = false := by simp; omega
  have fl : decide ((len : Int) < 4) = false := by simp; omega
  clear h14
  go_enter Try.func26, Try.ntmps26
  go_upto_region 1 with (first
    | (refine wpList_boxC _ rfl 24 _ rfl (sC 0 0 0 0) rfl ?_; intro w1 ss1 hg1)
    | (refine wpList_allocC _ rfl 28 rfl (gZ 0 0 0 0) (zeroG _) ?_; intro w2 rs2 hg2))
  have hG2 : Hid (w.grownBy w2 none) := Hid.mk' (gt hg1 hg2)
  have ss2 := ss1.kept0 hg2
  have hB2 : Hid (w.heap.size ≤ w1.heap.size) := Hid.mk' hg1.size
  clear hg1 hg2 ss1
  generalize w1.heap.size = B at *
  obtain ⟨SB, hSB⟩ : ∃ SB, Hid (w.heap.size = SB) := ⟨_, Hid.mk' rfl⟩
  rw [hSB.out] at ss2
  rw [hSB.out]
  have yc := hyc.out _ hG2.out; have y0 := hy0.out _ hG2.out; have s0 := ss2.cell 0 rfl
  go_upto_region 3 with (go_at_call 41; refine (aB1.out _).mono ?_; rintro e w3 ⟨rfl, hg⟩; have rs3 := rs2.kept0 hg; have ss3 := ss2.kept0 hg; have hG3 : Hid (w.grownBy w3 none) := Hid.mk' (gt hG2.out hg); clear yc y0 s0; have yc := hyc.out _ hG3.out; have y0 := hy0.out _ hG3.out; have s0 := ss3.cell 0 rfl; clear rs2 hg ss2)
  go_upto_region 5 with fail
  clear yc fl h4 aB1
  go_upto_region 8 with fail
  go_wp2_with (first
    | (refine wpList_loadC _ rfl 24 _ rfl _ Try.underlying24 rfl SB (sC 0 0 0 0) infoS rfl (by first | exact ss3 | exact ss2) ?_)
    | (refine wpList_storeC _ rfl 28 _ _ rfl B (gZ 0 0 0 0) (gM 10 1 0 0 0) infoG rfl (gC_one _ _ _ _ _ _ _ _ _) rfl rfl rs3 ?_; intro wz rsz hgz))
  refine bodyPost_ret (v := .agg (gM 10 1 0 0 0)) (results_cell_row Try.results26 _ wz B 28 _ (0, 0) _ rfl rsz Try.underlying28 rfl infoG) rfl ⟨rfl, ?_⟩
  exact grownBy_new hG3.out hgz (fun k hk => by have h5 := Option.some.inj hk; have h6 := hB2.out; omega)
set_option maxRecDepth 100000 in
set_option maxHeartbeats 1000000 in
theorem k_i140b (w : World) (g o len cap : Nat) (s : ByteArray) (hl1 : 0 < len) (hl2 : len ≤ cap) (hl3 : cap ≤ 9223372036854775807) (hyc : Hid (∀ wx, w.grownBy wx none → (convert 25 9 (.slice (some ⟨g, o, none⟩) len cap)).run Try.prog wx = .ok (.string s) wx)) (b : Nat) (h14 : b = 14) (hy0 : Hid (∀ wx, w.grownBy wx none → wx.cell? ⟨g, o, none⟩ = some (.int .u8 (b : Int)))) (aB1 : Hid (∀ wx, Calls Try.prog 41 #[.string s, .string ⟨#[27, 36, 41, 67]⟩] wx fun e w' => e = .returned (.bool false) ∧ wx.grownBy w' none)) (h4 : len < 4) (aB2 : Hid (∀ wx, Calls Try.prog 41 #[.string ⟨#[27, 36, 41, 67]⟩, .string s] wx fun e w' => e = .returned (.bool false) ∧ wx.grownBy w' none)) : Calls Try.prog 26 #[stV 0 0 0 0, .slice (some ⟨g, o, none⟩) len cap] w fun e w' => e = .returned (.agg (gM 10 1 0 0 0)) ∧ w.grownBy w' none := by
  have f0 : ((b : Int) == 27) = false := by simp; omega
  have f1 : decide ((128 : Int) ≤ (b : Int)) = false := by simp; omega
  have f2 : ((b : Int) == 14) = true := by simp; omega
  have f3 : ((b : Int) == 15) = false := by simp; omega
  have fl : decide ((len : Int) < 4) = true := by simp; omega
  clear h14
  go_enter Try.func26, Try.ntmps26
  go_upto_region 1 with (first
    | (refine wpList_boxC _ rfl 24 _ rfl (sC 0 0 0 0) rfl ?_; intro w1 ss1 hg1)
    | (refine wpList_allocC _ rfl 28 rfl (gZ 0 0 0 0) (zeroG _) ?_; intro w2 rs2 hg2))
  have hG2 : Hid (w.grownBy w2 none) := Hid.mk' (gt hg1 hg2)
  have ss2 := ss1.kept0 hg2
  have hB2 : Hid (w.heap.size ≤ w1.heap.size) := Hid.mk' hg1.size
  clear hg1 hg2 ss1
  generalize w1.heap.size = B at *
  obtain ⟨SB, hSB⟩ : ∃ SB, Hid (w.heap.size = SB) := ⟨_, Hid.mk' rfl⟩
  rw [hSB.out] at ss2
  rw [hSB.out]
  have yc := hyc.out _ hG2.out; have y0 := hy0.out _ hG2.out; have s0 := ss2.cell 0 rfl
  go_upto_region 3 with (go_at_call 41; refine (aB1.out _).mono ?_; rintro e w3 ⟨rfl, hg⟩; have rs3 := rs2.kept0 hg; have ss3 := ss2.kept0 hg; have hG3 : Hid (w.grownBy w3 none) := Hid.mk' (gt hG2.out hg); clear yc y0 s0; have yc := hyc.out _ hG3.out; have y0 := hy0.out _ hG3.out; have s0 := ss3.cell 0 rfl; clear rs2 hg ss2)
  go_upto_region 5 with (go_at_call 41; refine (aB2.out _).mono ?_; rintro e w4 ⟨rfl, hg⟩; have rs4 := rs3.kept0 hg; have ss4 := ss3.kept0 hg; have hG4 : Hid (w.grownBy w4 none) := Hid.mk' (gt hG3.out hg); clear yc y0 s0; have yc := hyc.out _ hG4.out; have y0 := hy0.out _ hG4.out; have s0 := ss4.cell 0 rfl; clear rs3 hg ss3)
  clear yc fl h4 aB1 aB2
  go_upto_region 8 with fail
  go_wp2_with (first
    | (refine wpList_loadC _ rfl 24 _ rfl _ Try.underlying24 rfl SB (sC 0 0 0 0) infoS rfl (by first | exact ss4 | exact ss3 | exact ss2) ?_)
    | (refine wpList_storeC _ rfl 28 _ _ rfl B (gZ 0 0 0 0) (gM 10 1 0 0 0) infoG rfl (gC_one _ _ _ _ _ _ _ _ _) rfl rfl rs4 ?_; intro wz rsz hgz))
  refine bodyPost_ret (v := .agg (gM 10 1 0 0 0)) (results_cell_row Try.results26 _ wz B 28 _ (0, 0) _ rfl rsz Try.underlying28 rfl infoG) rfl ⟨rfl, ?_⟩
  exact grownBy_new hG4.out hgz (fun k hk => by have h5 := Option.some.inj hk; have h6 := hB2.out; omega)
set_option maxRecDepth 100000 in
set_option maxHeartbeats 1000000 in
theorem k_i150a (w : World) (g o len cap : Nat) (s : ByteArray) (hl1 : 0 < len) (hl2 : len ≤ cap) (hl3 : cap ≤ 9223372036854775807) (hyc : Hid (∀ wx, w.grownBy wx none → (convert 25 9 (.slice (some ⟨g, o, none⟩) len cap)).run Try.prog wx = .ok (.string s) wx)) (b : Nat) (h15 : b = 15) (hy0 : Hid (∀ wx, w.grownBy wx none → wx.cell? ⟨g, o, none⟩ = some (.int .u8 (b : Int)))) (aB1 : Hid (∀ wx, Calls Try.prog 41 #[.string s, .string ⟨#[27, 36, 41, 67]⟩] wx fun e w' => e = .returned (.bool false) ∧ wx.grownBy w' none)) (h4 : ¬ len < 4) : Calls Try.prog 26 #[stV 0 0 0 0, .slice (some ⟨g, o, none⟩) len cap] w fun e w' => e = .returned (.agg (gM 10 1 0 0 0)) ∧ w.grownBy w' none := by
  have f0 : ((b : Int) == 27) = false := by simp; omega
  have f1 : decide ((128 : Int) ≤ (b : Int)) = false := by simp; omega
  have f2 : ((b : Int) == 14) = false := by simp; omega
  have f3 : ((b : Int) == 15) = true := by simp; omega
  have fl : decide ((len : Int) < 4) = false := by simp; omega
  clear h15
  go_enter Try.func26, Try.ntmps26
  go_upto_region 1 with (first
    | (refine wpList_boxC _ rfl 24 _ rfl (sC 0 0 0 0) rfl ?_; intro w1 ss1 hg1)
    | (refine wpList_allocC _ rfl 28 rfl (gZ 0 0 0 0) (zeroG _) ?_; intro w2 rs2 hg2))
  have hG2 : Hid (w.grownBy w2 none) := Hid.mk' (gt hg1 hg2)
  have ss2 := ss1.kept0 hg2
  have hB2 : Hid (w.heap.size ≤ w1.heap.size) := Hid.mk' hg1.size
  clear hg1 hg2 ss1
  generalize w1.heap.size = B at *
  obtain ⟨SB, hSB⟩ : ∃ SB, Hid (w.heap.size = SB) := ⟨_, Hid.mk' rfl⟩
  rw [hSB.out] at ss2
  rw [hSB.out]
  have yc := hyc.out _ hG2.out; have y0 := hy0.out _ hG2.out; have s0 := ss2.cell 0 rfl
  go_upto_region 3 with (go_at_call 41; refine (aB1.out _).mono ?_; rintro e w3 ⟨rfl, hg⟩; have rs3 := rs2.kept0 hg; have ss3 := ss2.kept0 hg; have hG3 : Hid (w.grownBy w3 none) := Hid.mk' (gt hG2.out hg); clear yc y0 s0; have yc := hyc.out _ hG3.out; have y0 := hy0.out _ hG3.out; have s0 := ss3.cell 0 rfl; clear rs2 hg ss2)
  go_upto_region 5 with fail
  clear yc fl h4 aB1
  go_upto_region 8 with fail
  go_wp2_with (first
    | (refine wpList_loadC _ rfl 24 _ rfl _ Try.underlying24 rfl SB (sC 0 0 0 0) infoS rfl (by first | exact ss3 | exact ss2) ?_)
    | (refine wpList_storeC _ rfl 28 _ _ rfl B (gZ 0 0 0 0) (gM 10 1 0 0 0) infoG rfl (gC_one _ _ _ _ _ _ _ _ _) rfl rfl rs3 ?_; intro wz rsz hgz))
  refine bodyPost_ret (v := .agg (gM 10 1 0 0 0)) (results_cell_row Try.results26 _ wz B 28 _ (0, 0) _ rfl rsz Try.underlying28 rfl infoG) rfl ⟨rfl, ?_⟩
  exact grownBy_new hG3.out hgz (fun k hk => by have h5 := Option.some.inj hk; have h6 := hB2.out; omega)
set_option maxRecDepth 100000 in
set_option maxHeartbeats 1000000 in
theorem k_i150b (w : World) (g o len cap : Nat) (s : ByteArray) (hl1 : 0 < len) (hl2 : len ≤ cap) (hl3 : cap ≤ 9223372036854775807) (hyc : Hid (∀ wx, w.grownBy wx none → (convert 25 9 (.slice (some ⟨g, o, none⟩) len cap)).run Try.prog wx = .ok (.string s) wx)) (b : Nat) (h15 : b = 15) (hy0 : Hid (∀ wx, w.grownBy wx none → wx.cell? ⟨g, o, none⟩ = some (.int .u8 (b : Int)))) (aB1 : Hid (∀ wx, Calls Try.prog 41 #[.string s, .string ⟨#[27, 36, 41, 67]⟩] wx fun e w' => e = .returned (.bool false) ∧ wx.grownBy w' none)) (h4 : len < 4) (aB2 : Hid (∀ wx, Calls Try.prog 41 #[.string ⟨#[27, 36, 41, 67]⟩, .string s] wx fun e w' => e = .returned (.bool false) ∧ wx.grownBy w' none)) : Calls Try.prog 26 #[stV 0 0 0 0, .slice (some ⟨g, o, none⟩) len cap] w fun e w' => e = .returned (.agg (gM 10 1 0 0 0)) ∧ w.grownBy w' none := by
  have f0 : ((b : Int) == 27) = false := by simp; omega
  have f1 : decide ((128 : Int) ≤ (b : Int)) = false := by simp; omega
  have f2 : ((b : Int) == 14) = false := by simp; omega
  have f3 : ((b : Int) == 15) = true := by simp; omega
  have fl : decide ((len : Int) < 4) = true := by simp; omega
  clear h15
  go_enter Try.func26, Try.ntmps26
  go_upto_region 1 with (first
    | (refine wpList_boxC _ rfl 24 _ rfl (sC 0 0 0 0) rfl ?_; intro w1 ss1 hg1)
    | (refine wpList_allocC _ rfl 28 rfl (gZ 0 0 0 0) (zeroG _) ?_; intro w2 rs2 hg2))
  have hG2 : Hid (w.grownBy w2 none) := Hid.mk' (gt hg1 hg2)
  have ss2 := ss1.kept0 hg2
  have hB2 : Hid (w.heap.size ≤ w1.heap.size) := Hid.mk' hg1.size
  clear hg1 hg2 ss1
  generalize w1.heap.size = B at *
  obtain ⟨SB, hSB⟩ : ∃ SB, Hid (w.heap.size = SB) := ⟨_, Hid.mk' rfl⟩
  rw [hSB.out] at ss2
  rw [hSB.out]
  have yc := hyc.out _ hG2.out; have y0 := hy0.out _ hG2.out; have s0 := ss2.cell 0 rfl
  go_upto_region 3 with (go_at_call 41; refine (aB1.out _).mono ?_; rintro e w3 ⟨rfl, hg⟩; have rs3 := rs2.kept0 hg; have ss3 := ss2.kept0 hg; have hG3 : Hid (w.grownBy w3 none) := Hid.mk' (gt hG2.out hg); clear yc y0 s0; have yc := hyc.out _ hG3.out; have y0 := hy0.out _ hG3.out; have s0 := ss3.cell 0 rfl; clear rs2 hg ss2)
  go_upto_region 5 with (go_at_call 41; refine (aB2.out _).mono ?_; rintro e w4 ⟨rfl, hg⟩; have rs4 := rs3.kept0 hg; have ss4 := ss3.kept0 hg; have hG4 : Hid (w.grownBy w4 none) := Hid.mk' (gt hG3.out hg); clear yc y0 s0; have yc := hyc.out _ hG4.out; have y0 := hy0.out _ hG4.out; have s0 := ss4.cell 0 rfl; clear rs3 hg ss3)
  clear yc fl h4 aB1 aB2
  go_upto_region 8 with fail
  go_wp2_with (first
    | (refine wpList_loadC _ rfl 24 _ rfl _ Try.underlying24 rfl SB (sC 0 0 0 0) infoS rfl (by first | exact ss4 | exact ss3 | exact ss2) ?_)
    | (refine wpList_storeC _ rfl 28 _ _ rfl B (gZ 0 0 0 0) (gM 10 1 0 0 0) infoG rfl (gC_one _ _ _ _ _ _ _ _ _) rfl rfl rs4 ?_; intro wz rsz hgz))
  refine bodyPost_ret (v := .agg (gM 10 1 0 0 0)) (results_cell_row Try.results26 _ wz B 28 _ (0, 0) _ rfl rsz Try.underlying28 rfl infoG) rfl ⟨rfl, ?_⟩
  exact grownBy_new hG4.out hgz (fun k hk => by have h5 := Option.some.inj hk; have h6 := hB2.out; omega)
set_option maxRecDepth 100000 in
set_option maxHeartbeats 1000000 in
theorem k_ch0a (w : World) (g o len cap : Nat) (s : ByteArray) (hl1 : 0 < len) (hl2 : len ≤ cap) (hl3 : cap ≤ 9223372036854775807) (hyc : Hid (∀ wx, w.grownBy wx none → (convert 25 9 (.slice (some ⟨g, o, none⟩) len cap)).run Try.prog wx = .ok (.string s) wx)) (b : Nat) (h27 : b ≠ 27) (h8 : b < 128) (h14 : b ≠ 14) (h15 : b ≠ 15) (hy0 : Hid (∀ wx, w.grownBy wx none → wx.cell? ⟨g, o, none⟩ = some (.int .u8 (b : Int)))) (aB1 : Hid (∀ wx, Calls Try.prog 41 #[.string s, .string ⟨#[27, 36, 41, 67]⟩] wx fun e w' => e = .returned (.bool false) ∧ wx.grownBy w' none)) (h4 : ¬ len < 4) : Calls Try.prog 26 #[stV 0 0 0 0, .slice (some ⟨g, o, none⟩) len cap] w fun e w' => e = .returned (.agg (gM 0 1 1 (b : Int) 1)) ∧ w.grownBy w' none := by
  have f0 : ((b : Int) == 27) = false := by simp; omega
  have f1 : decide ((128 : Int) ≤ (b : Int)) = false := by simp; omega
  have f2 : ((b : Int) == 14) = false := by simp; omega
  have f3 : ((b : Int) == 15) = false := by simp; omega
  have fl : decide ((len : Int) < 4) = false := by simp; omega
  go_enter Try.func26, Try.ntmps26
  go_upto_region 1 with (first
    | (refine wpList_boxC _ rfl 24 _ rfl (sC 0 0 0 0) rfl ?_; intro w1 ss1 hg1)
    | (refine wpList_allocC _ rfl 28 rfl (gZ 0 0 0 0) (zeroG _) ?_; intro w2 rs2 hg2))
  have hG2 : Hid (w.grownBy w2 none) := Hid.mk' (gt hg1 hg2)
  have ss2 := ss1.kept0 hg2
  have hB2 : Hid (w.heap.size ≤ w1.heap.size) := Hid.mk' hg1.size
  clear hg1 hg2 ss1
  generalize w1.heap.size = B at *
  obtain ⟨SB, hSB⟩ : ∃ SB, Hid (w.heap.size = SB) := ⟨_, Hid.mk' rfl⟩
  rw [hSB.out] at ss2
  rw [hSB.out]
  have yc := hyc.out _ hG2.out; have y0 := hy0.out _ hG2.out; have s0 := ss2.cell 0 rfl
  go_upto_region 3 with (go_at_call 41; refine (aB1.out _).mono ?_; rintro e w3 ⟨rfl, hg⟩; have rs3 := rs2.kept0 hg; have ss3 := ss2.kept0 hg; have hG3 : Hid (w.grownBy w3 none) := Hid.mk' (gt hG2.out hg); clear yc y0 s0; have yc := hyc.out _ hG3.out; have y0 := hy0.out _ hG3.out; have s0 := ss3.cell 0 rfl; clear rs2 hg ss2)
  go_upto_region 5 with fail
  clear yc fl h4 aB1
  go_upto_region 10 with fail
  go_wp2_with (first
    | (refine wpList_loadC _ rfl 24 _ rfl _ Try.underlying24 rfl SB (sC 0 0 0 0) infoS rfl (by first | exact ss3 | exact ss2) ?_)
    | (refine wpList_storeC _ rfl 28 _ _ rfl B (gZ 0 0 0 0) (gM 0 1 1 (b : Int) 1) infoG rfl (gC_one _ _ _ _ _ _ _ _ _) rfl rfl rs3 ?_; intro wz rsz hgz))
  refine bodyPost_ret (v := .agg (gM 0 1 1 (b : Int) 1)) (results_cell_row Try.results26 _ wz B 28 _ (0, 0) _ rfl rsz Try.underlying28 rfl infoG) rfl ⟨rfl, ?_⟩
  exact grownBy_new hG3.out hgz (fun k hk => by have h5 := Option.some.inj hk; have h6 := hB2.out; omega)
set_option maxRecDepth 100000 in
set_option maxHeartbeats 1000000 in
theorem k_ch0b (w : World) (g o len cap : Nat) (s : ByteArray) (hl1 : 0 < len) (hl2 : len ≤ cap) (hl3 : cap ≤ 9223372036854775807) (hyc : Hid (∀ wx, w.grownBy wx none → (convert 25 9 (.slice (some ⟨g, o, none⟩) len cap)).run Try.prog wx = .ok (.string s) wx)) (b : Nat) (h27 : b ≠ 27) (h8 : b < 128) (h14 : b ≠ 14) (h15 : b ≠ 15) (hy0 : Hid (∀ wx, w.grownBy wx none → wx.cell? ⟨g, o, none⟩ = some (.int .u8 (b : Int)))) (aB1 : Hid (∀ wx, Calls Try.prog 41 #[.string s, .string ⟨#[27, 36, 41, 67]⟩] wx fun e w' => e = .returned (.bool false) ∧ wx.grownBy w' none)) (h4 : len < 4) (aB2 : Hid (∀ wx, Calls Try.prog 41 #[.string ⟨#[27, 36, 41, 67]⟩, .string s] wx fun e w' => e = .returned (.bool false) ∧ wx.grownBy w' none)) : Calls Try.prog 26 #[stV 0 0 0 0, .slice (some ⟨g, o, none⟩) len cap] w fun e w' => e = .returned (.agg (gM 0 1 1 (b : Int) 1)) ∧ w.grownBy w' none := by
  have f0 : ((b : Int) == 27) = false := by simp; omega
  have f1 : decide ((128 : Int) ≤ (b : Int)) = false := by simp; omega
  have f2 : ((b : Int) == 14) = false := by simp; omega
  have f3 : ((b : Int) == 15) = false := by simp; omega
  have fl : decide ((len : Int) < 4) = true := by simp; omega
  go_enter Try.func26, Try.ntmps26
  go_upto_region 1 with (first
    | (refine wpList_boxC _ rfl 24 _ rfl (sC 0 0 0 0) rfl ?_; intro w1 ss1 hg1)
    | (refine wpList_allocC _ rfl 28 rfl (gZ 0 0 0 0) (zeroG _) ?_; intro w2 rs2 hg2))
  have hG2 : Hid (w.grownBy w2 none) := Hid.mk' (gt hg1 hg2)
  have ss2 := ss1.kept0 hg2
  have hB2 : Hid (w.heap.size ≤ w1.heap.size) := Hid.mk' hg1.size
  clear hg1 hg2 ss1
  generalize w1.heap.size = B at *
  obtain ⟨SB, hSB⟩ : ∃ SB, Hid (w.heap.size = SB) := ⟨_, Hid.mk' rfl⟩
  rw [hSB.out] at ss2
  rw [hSB.out]
  have yc := hyc.out _ hG2.out; have y0 := hy0.out _ hG2.out; have s0 := ss2.cell 0 rfl
  go_upto_region 3 with (go_at_call 41; refine (aB1.out _).mono ?_; rintro e w3 ⟨rfl, hg⟩; have rs3 := rs2.kept0 hg; have ss3 := ss2.kept0 hg; have hG3 : Hid (w.grownBy w3 none) := Hid.mk' (gt hG2.out hg); clear yc y0 s0; have yc := hyc.out _ hG3.out; have y0 := hy0.out _ hG3.out; have s0 := ss3.cell 0 rfl; clear rs2 hg ss2)
  go_upto_region 5 with (go_at_call 41; refine (aB2.out _).mono ?_; rintro e w4 ⟨rfl, hg⟩; have rs4 := rs3.kept0 hg; have ss4 := ss3.kept0 hg; have hG4 : Hid (w.grownBy w4 none) := Hid.mk' (gt hG3.out hg); clear yc y0 s0; have yc := hyc.out _ hG4.out; have y0 := hy0.out _ hG4.out; have s0 := ss4.cell 0 rfl; clear rs3 hg ss3)
  clear yc fl h4 aB1 aB2
  go_upto_region 10 with fail
  go_wp2_with (first
    | (refine wpList_loadC _ rfl 24 _ rfl _ Try.underlying24 rfl SB (sC 0 0 0 0) infoS rfl (by first | exact ss4 | exact ss3 | exact ss2) ?_)
    | (refine wpList_storeC _ rfl 28 _ _ rfl B (gZ 0 0 0 0) (gM 0 1 1 (b : Int) 1) infoG rfl (gC_one _ _ _ _ _ _ _ _ _) rfl rfl rs4 ?_; intro wz rsz hgz))
  refine bodyPost_ret (v := .agg (gM 0 1 1 (b : Int) 1)) (results_cell_row Try.results26 _ wz B 28 _ (0, 0) _ rfl rsz Try.underlying28 rfl infoG) rfl ⟨rfl, ?_⟩
  exact grownBy_new hG4.out hgz (fun k hk => by have h5 := Option.some.inj hk; have h6 := hB2.out; omega)
end Go.Proofs.Ytdobjijebalkkaa.C21
