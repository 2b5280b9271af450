/- The document's pair of layer 21: walks, a way each. -/
import Derived.Test.YtdobjijebalkkaaIS21
import Derived.Test.YtdobjijebalkkaaRegion
import Derived.Deep.RegionHeld3
import Derived.BigQuiet
namespace Go.Proofs.Ytdobjijebalkkaa.C21
open Go.ChangeShapes Go.WideShapes Go.ChangeAt Go.RowKit Go.Proofs.Ytdobjijebalkkaa.Mem Go.Proofs.Ytdobjijebalkkaa.Cb Go.Proofs.Ytdobjijebalkkaa.Sp
set_option linter.unusedVariables false
set_option linter.unusedSimpArgs false

theorem sc14 (r c : Int) (hc : C14.I64 c) (Q : Option Nat) (hR : Hid (C14.scP r c = Q)) (w : World) : Calls Try.prog 49 #[.int .i64 r, .int .i64 c] w fun e w' => e = .returned (.tuple #[.int .i32 ((Q.getD 0 : Nat) : Int), .bool Q.isSome]) ∧ w.grownBy w' none := C14.refScalar_any r c hc w Q hR
theorem sc16 (r c : Int) (hc : C16.I64 c) (Q : Option Nat) (hR : Hid (C16.scP r c = Q)) (w : World) : Calls Try.prog 53 #[.int .i64 r, .int .i64 c] w fun e w' => e = .returned (.tuple #[.int .i32 ((Q.getD 0 : Nat) : Int), .bool Q.isSome]) ∧ w.grownBy w' none := C16.refScalar_any r c hc w Q hR
set_option maxRecDepth 100000 in
set_option maxHeartbeats 1000000 in
theorem p_one83 (m : Nat) (w : World) (g o : Nat) (b : Nat) (hy0 : Hid (∀ wx, w.grownBy wx none → wx.cell? ⟨g, o, none⟩ = some (.int .u8 (b : Int)))) (cap : Nat) (hl2 : 1 ≤ cap) (hl3 : cap ≤ 9223372036854775807) : Calls Try.prog 43 #[.int .i64 83, stV (m : Int) 0 0 0, .slice (some ⟨g, o, none⟩) 1 cap] w fun e w' => e = .returned (.agg (gM 1 0 0 0 0)) ∧ w.grownBy w' none := by
  go_enter Try.func43, Try.ntmps43
  go_upto_region 1 with (first
    | (refine wpList_boxC _ rfl 24 _ rfl (sC (m : Int) 0 0 0) rfl ?_; intro w1 ss1 hg1)
    | (refine wpList_allocC _ rfl 28 rfl (gZ 0 0 0 0) (zeroG _) ?_; intro w2 rs2 hg2))
  have hG2 : Hid (w.grownBy w2 none) := Hid.mk' (gt hg1 hg2)
  have ss2 := ss1.kept0 hg2
  have hB2 : Hid (w.heap.size ≤ w1.heap.size) := Hid.mk' hg1.size
  clear hg1 hg2 ss1
  generalize w1.heap.size = B at *
  obtain ⟨SB, hSB⟩ : ∃ SB, Hid (w.heap.size = SB) := ⟨_, Hid.mk' rfl⟩
  rw [hSB.out] at ss2
  rw [hSB.out]
  have y0 := hy0.out _ hG2.out; have s0 := ss2.cell 0 rfl
  go_wp2_with (first
    | (refine wpList_loadC _ rfl 24 _ rfl _ Try.underlying24 rfl SB (sC (m : Int) 0 0 0) infoS rfl ss2 ?_)
    | (refine wpList_storeC _ rfl 28 _ _ rfl B (gZ 0 0 0 0) (gM 1 0 0 0 0) infoG rfl (gC_one _ _ _ _ _ _ _ _ _) rfl rfl rs2 ?_; intro wz rsz hgz))
  refine bodyPost_ret (v := .agg (gM 1 0 0 0 0)) (results_cell_row Try.results43 _ wz B 28 _ (0, 0) _ rfl rsz Try.underlying28 rfl infoG) rfl ⟨rfl, ?_⟩
  exact grownBy_new hG2.out hgz (fun k hk => by have h5 := Option.some.inj hk; have h6 := hB2.out; omega)
set_option maxRecDepth 100000 in
set_option maxHeartbeats 1000000 in
theorem p_lo83 (m : Nat) (w : World) (g o : Nat) (b : Nat) (hy0 : Hid (∀ wx, w.grownBy wx none → wx.cell? ⟨g, o, none⟩ = some (.int .u8 (b : Int)))) (c : Nat) (hy1 : Hid (∀ wx, w.grownBy wx none → wx.cell? ⟨g, o + 1, none⟩ = some (.int .u8 (c : Int)))) (len cap : Nat) (hl1 : 0 < len) (hl2 : len ≤ cap) (hl3 : cap ≤ 9223372036854775807) (hl5 : 1 < len) (hl6 : ((len : Int) == 1) = false) (h3 : c < 33) : Calls Try.prog 43 #[.int .i64 83, stV (m : Int) 0 0 0, .slice (some ⟨g, o, none⟩) len cap] w fun e w' => e = .returned (.agg (gM 10 1 0 0 (m : Int))) ∧ w.grownBy w' none := by
  have f0 : decide ((c : Int) < 33) = true := by simp; omega
  go_enter Try.func43, Try.ntmps43
  go_upto_region 1 with (first
    | (refine wpList_boxC _ rfl 24 _ rfl (sC (m : Int) 0 0 0) rfl ?_; intro w1 ss1 hg1)
    | (refine wpList_allocC _ rfl 28 rfl (gZ 0 0 0 0) (zeroG _) ?_; intro w2 rs2 hg2))
  have hG2 : Hid (w.grownBy w2 none) := Hid.mk' (gt hg1 hg2)
  have ss2 := ss1.kept0 hg2
  have hB2 : Hid (w.heap.size ≤ w1.heap.size) := Hid.mk' hg1.size
  clear hg1 hg2 ss1
  generalize w1.heap.size = B at *
  obtain ⟨SB, hSB⟩ : ∃ SB, Hid (w.heap.size = SB) := ⟨_, Hid.mk' rfl⟩
  rw [hSB.out] at ss2
  rw [hSB.out]
  have y0 := hy0.out _ hG2.out; have y1 := hy1.out _ hG2.out; have s0 := ss2.cell 0 rfl
  go_wp2_with (first
    | (refine wpList_loadC _ rfl 24 _ rfl _ Try.underlying24 rfl SB (sC (m : Int) 0 0 0) infoS rfl ss2 ?_)
    | (refine wpList_storeC _ rfl 28 _ _ rfl B (gZ 0 0 0 0) (gM 10 1 0 0 (m : Int)) infoG rfl (gC_one _ _ _ _ _ _ _ _ _) rfl rfl rs2 ?_; intro wz rsz hgz))
  refine bodyPost_ret (v := .agg (gM 10 1 0 0 (m : Int))) (results_cell_row Try.results43 _ wz B 28 _ (0, 0) _ rfl rsz Try.underlying28 rfl infoG) rfl ⟨rfl, ?_⟩
  exact grownBy_new hG2.out hgz (fun k hk => by have h5 := Option.some.inj hk; have h6 := hB2.out; omega)
set_option maxRecDepth 100000 in
set_option maxHeartbeats 1000000 in
theorem p_hi83 (m : Nat) (w : World) (g o : Nat) (b : Nat) (hy0 : Hid (∀ wx, w.grownBy wx none → wx.cell? ⟨g, o, none⟩ = some (.int .u8 (b : Int)))) (c : Nat) (hy1 : Hid (∀ wx, w.grownBy wx none → wx.cell? ⟨g, o + 1, none⟩ = some (.int .u8 (c : Int)))) (len cap : Nat) (hl1 : 0 < len) (hl2 : len ≤ cap) (hl3 : cap ≤ 9223372036854775807) (hl5 : 1 < len) (hl6 : ((len : Int) == 1) = false) (h3 : 126 < c) : Calls Try.prog 43 #[.int .i64 83, stV (m : Int) 0 0 0, .slice (some ⟨g, o, none⟩) len cap] w fun e w' => e = .returned (.agg (gM 10 1 0 0 (m : Int))) ∧ w.grownBy w' none := by
  have f0 : decide ((c : Int) < 33) = false := by simp; omega
  have f1 : decide (126 < (c : Int)) = true := by simp; omega
  go_enter Try.func43, Try.ntmps43
  go_upto_region 1 with (first
    | (refine wpList_boxC _ rfl 24 _ rfl (sC (m : Int) 0 0 0) rfl ?_; intro w1 ss1 hg1)
    | (refine wpList_allocC _ rfl 28 rfl (gZ 0 0 0 0) (zeroG _) ?_; intro w2 rs2 hg2))
  have hG2 : Hid (w.grownBy w2 none) := Hid.mk' (gt hg1 hg2)
  have ss2 := ss1.kept0 hg2
  have hB2 : Hid (w.heap.size ≤ w1.heap.size) := Hid.mk' hg1.size
  clear hg1 hg2 ss1
  generalize w1.heap.size = B at *
  obtain ⟨SB, hSB⟩ : ∃ SB, Hid (w.heap.size = SB) := ⟨_, Hid.mk' rfl⟩
  rw [hSB.out] at ss2
  rw [hSB.out]
  have y0 := hy0.out _ hG2.out; have y1 := hy1.out _ hG2.out; have s0 := ss2.cell 0 rfl
  go_wp2_with (first
    | (refine wpList_loadC _ rfl 24 _ rfl _ Try.underlying24 rfl SB (sC (m : Int) 0 0 0) infoS rfl ss2 ?_)
    | (refine wpList_storeC _ rfl 28 _ _ rfl B (gZ 0 0 0 0) (gM 10 1 0 0 (m : Int)) infoG rfl (gC_one _ _ _ _ _ _ _ _ _) rfl rfl rs2 ?_; intro wz rsz hgz))
  refine bodyPost_ret (v := .agg (gM 10 1 0 0 (m : Int))) (results_cell_row Try.results43 _ wz B 28 _ (0, 0) _ rfl rsz Try.underlying28 rfl infoG) rfl ⟨rfl, ?_⟩
  exact grownBy_new hG2.out hgz (fun k hk => by have h5 := Option.some.inj hk; have h6 := hB2.out; omega)
set_option maxRecDepth 100000 in
set_option maxHeartbeats 1000000 in
theorem p_one88 (m : Nat) (w : World) (g o : Nat) (b : Nat) (hy0 : Hid (∀ wx, w.grownBy wx none → wx.cell? ⟨g, o, none⟩ = some (.int .u8 (b : Int)))) (cap : Nat) (hl2 : 1 ≤ cap) (hl3 : cap ≤ 9223372036854775807) : Calls Try.prog 43 #[.int .i64 88, stV (m : Int) 0 0 0, .slice (some ⟨g, o, none⟩) 1 cap] w fun e w' => e = .returned (.agg (gM 1 0 0 0 0)) ∧ w.grownBy w' none := by
  go_enter Try.func43, Try.ntmps43
  go_upto_region 1 with (first
    | (refine wpList_boxC _ rfl 24 _ rfl (sC (m : Int) 0 0 0) rfl ?_; intro w1 ss1 hg1)
    | (refine wpList_allocC _ rfl 28 rfl (gZ 0 0 0 0) (zeroG _) ?_; intro w2 rs2 hg2))
  have hG2 : Hid (w.grownBy w2 none) := Hid.mk' (gt hg1 hg2)
  have ss2 := ss1.kept0 hg2
  have hB2 : Hid (w.heap.size ≤ w1.heap.size) := Hid.mk' hg1.size
  clear hg1 hg2 ss1
  generalize w1.heap.size = B at *
  obtain ⟨SB, hSB⟩ : ∃ SB, Hid (w.heap.size = SB) := ⟨_, Hid.mk' rfl⟩
  rw [hSB.out] at ss2
  rw [hSB.out]
  have y0 := hy0.out _ hG2.out; have s0 := ss2.cell 0 rfl
  go_wp2_with (first
    | (refine wpList_loadC _ rfl 24 _ rfl _ Try.underlying24 rfl SB (sC (m : Int) 0 0 0) infoS rfl ss2 ?_)
    | (refine wpList_storeC _ rfl 28 _ _ rfl B (gZ 0 0 0 0) (gM 1 0 0 0 0) infoG rfl (gC_one _ _ _ _ _ _ _ _ _) rfl rfl rs2 ?_; intro wz rsz hgz))
  refine bodyPost_ret (v := .agg (gM 1 0 0 0 0)) (results_cell_row Try.results43 _ wz B 28 _ (0, 0) _ rfl rsz Try.underlying28 rfl infoG) rfl ⟨rfl, ?_⟩
  exact grownBy_new hG2.out hgz (fun k hk => by have h5 := Option.some.inj hk; have h6 := hB2.out; omega)
set_option maxRecDepth 100000 in
set_option maxHeartbeats 1000000 in
theorem p_lo88 (m : Nat) (w : World) (g o : Nat) (b : Nat) (hy0 : Hid (∀ wx, w.grownBy wx none → wx.cell? ⟨g, o, none⟩ = some (.int .u8 (b : Int)))) (c : Nat) (hy1 : Hid (∀ wx, w.grownBy wx none → wx.cell? ⟨g, o + 1, none⟩ = some (.int .u8 (c : Int)))) (len cap : Nat) (hl1 : 0 < len) (hl2 : len ≤ cap) (hl3 : cap ≤ 9223372036854775807) (hl5 : 1 < len) (hl6 : ((len : Int) == 1) = false) (h3 : c < 33) : Calls Try.prog 43 #[.int .i64 88, stV (m : Int) 0 0 0, .slice (some ⟨g, o, none⟩) len cap] w fun e w' => e = .returned (.agg (gM 10 1 0 0 (m : Int))) ∧ w.grownBy w' none := by
  have f0 : decide ((c : Int) < 33) = true := by simp; omega
  go_enter Try.func43, Try.ntmps43
  go_upto_region 1 with (first
    | (refine wpList_boxC _ rfl 24 _ rfl (sC (m : Int) 0 0 0) rfl ?_; intro w1 ss1 hg1)
    | (refine wpList_allocC _ rfl 28 rfl (gZ 0 0 0 0) (zeroG _) ?_; intro w2 rs2 hg2))
  have hG2 : Hid (w.grownBy w2 none) := Hid.mk' (gt hg1 hg2)
  have ss2 := ss1.kept0 hg2
  have hB2 : Hid (w.heap.size ≤ w1.heap.size) := Hid.mk' hg1.size
  clear hg1 hg2 ss1
  generalize w1.heap.size = B at *
  obtain ⟨SB, hSB⟩ : ∃ SB, Hid (w.heap.size = SB) := ⟨_, Hid.mk' rfl⟩
  rw [hSB.out] at ss2
  rw [hSB.out]
  have y0 := hy0.out _ hG2.out; have y1 := hy1.out _ hG2.out; have s0 := ss2.cell 0 rfl
  go_wp2_with (first
    | (refine wpList_loadC _ rfl 24 _ rfl _ Try.underlying24 rfl SB (sC (m : Int) 0 0 0) infoS rfl ss2 ?_)
    | (refine wpList_storeC _ rfl 28 _ _ rfl B (gZ 0 0 0 0) (gM 10 1 0 0 (m : Int)) infoG rfl (gC_one _ _ _ _ _ _ _ _ _) rfl rfl rs2 ?_; intro wz rsz hgz))
  refine bodyPost_ret (v := .agg (gM 10 1 0 0 (m : Int))) (results_cell_row Try.results43 _ wz B 28 _ (0, 0) _ rfl rsz Try.underlying28 rfl infoG) rfl ⟨rfl, ?_⟩
  exact grownBy_new hG2.out hgz (fun k hk => by have h5 := Option.some.inj hk; have h6 := hB2.out; omega)
set_option maxRecDepth 100000 in
set_option maxHeartbeats 1000000 in
theorem p_hi88 (m : Nat) (w : World) (g o : Nat) (b : Nat) (hy0 : Hid (∀ wx, w.grownBy wx none → wx.cell? ⟨g, o, none⟩ = some (.int .u8 (b : Int)))) (c : Nat) (hy1 : Hid (∀ wx, w.grownBy wx none → wx.cell? ⟨g, o + 1, none⟩ = some (.int .u8 (c : Int)))) (len cap : Nat) (hl1 : 0 < len) (hl2 : len ≤ cap) (hl3 : cap ≤ 9223372036854775807) (hl5 : 1 < len) (hl6 : ((len : Int) == 1) = false) (h3 : 126 < c) : Calls Try.prog 43 #[.int .i64 88, stV (m : Int) 0 0 0, .slice (some ⟨g, o, none⟩) len cap] w fun e w' => e = .returned (.agg (gM 10 1 0 0 (m : Int))) ∧ w.grownBy w' none := by
  have f0 : decide ((c : Int) < 33) = false := by simp; omega
  have f1 : decide (126 < (c : Int)) = true := by simp; omega
  go_enter Try.func43, Try.ntmps43
  go_upto_region 1 with (first
    | (refine wpList_boxC _ rfl 24 _ rfl (sC (m : Int) 0 0 0) rfl ?_; intro w1 ss1 hg1)
    | (refine wpList_allocC _ rfl 28 rfl (gZ 0 0 0 0) (zeroG _) ?_; intro w2 rs2 hg2))
  have hG2 : Hid (w.grownBy w2 none) := Hid.mk' (gt hg1 hg2)
  have ss2 := ss1.kept0 hg2
  have hB2 : Hid (w.heap.size ≤ w1.heap.size) := Hid.mk' hg1.size
  clear hg1 hg2 ss1
  generalize w1.heap.size = B at *
  obtain ⟨SB, hSB⟩ : ∃ SB, Hid (w.heap.size = SB) := ⟨_, Hid.mk' rfl⟩
  rw [hSB.out] at ss2
  rw [hSB.out]
  have y0 := hy0.out _ hG2.out; have y1 := hy1.out _ hG2.out; have s0 := ss2.cell 0 rfl
  go_wp2_with (first
    | (refine wpList_loadC _ rfl 24 _ rfl _ Try.underlying24 rfl SB (sC (m : Int) 0 0 0) infoS rfl ss2 ?_)
    | (refine wpList_storeC _ rfl 28 _ _ rfl B (gZ 0 0 0 0) (gM 10 1 0 0 (m : Int)) infoG rfl (gC_one _ _ _ _ _ _ _ _ _) rfl rfl rs2 ?_; intro wz rsz hgz))
  refine bodyPost_ret (v := .agg (gM 10 1 0 0 (m : Int))) (results_cell_row Try.results43 _ wz B 28 _ (0, 0) _ rfl rsz Try.underlying28 rfl infoG) rfl ⟨rfl, ?_⟩
  exact grownBy_new hG2.out hgz (fun k hk => by have h5 := Option.some.inj hk; have h6 := hB2.out; omega)
set_option maxRecDepth 100000 in
set_option maxHeartbeats 1000000 in
theorem p_n83 (m : Nat) (w : World) (g o : Nat) (b : Nat) (hy0 : Hid (∀ wx, w.grownBy wx none → wx.cell? ⟨g, o, none⟩ = some (.int .u8 (b : Int)))) (c : Nat) (hy1 : Hid (∀ wx, w.grownBy wx none → wx.cell? ⟨g, o + 1, none⟩ = some (.int .u8 (c : Int)))) (len cap : Nat) (hl1 : 0 < len) (hl2 : len ≤ cap) (hl3 : cap ≤ 9223372036854775807) (hl5 : 1 < len) (hl6 : ((len : Int) == 1) = false) (h1 : b < 256) (h3 : 33 ≤ c) (h4 : c ≤ 126) (x y : Int) (hx : (b : Int) - 32 = x) (hy : (c : Int) - 32 = y) (hR : Hid (C14.scP x y = none)) : Calls Try.prog 43 #[.int .i64 83, stV (m : Int) 0 0 0, .slice (some ⟨g, o, none⟩) len cap] w fun e w' => e = .returned (.agg (gM 10 2 0 0 (m : Int))) ∧ w.grownBy w' none := by
  have f0 : decide ((c : Int) < 33) = false := by simp; omega
  have f1 : decide (126 < (c : Int)) = false := by simp; omega
  have e1 : (b : Int) - 32 = x := hx
  have hl7 : (1 : Int) < (len : Int) := by omega
  have hl8 : (0 : Int) < (len : Int) := by omega
  have e2 : (c : Int) - 32 = y := hy
  have e5 : IntKind.i64.wrap (b : Int) = (b : Int) := by rw [IntKind.wrap_i64]; omega
  have e6 : IntKind.i64.wrap (c : Int) = (c : Int) := by rw [IntKind.wrap_i64]; omega
  have e3 : IntKind.i64.wrap x = x := by rw [IntKind.wrap_i64]; omega
  have e4 : IntKind.i64.wrap y = y := by rw [IntKind.wrap_i64]; omega
  go_enter Try.func43, Try.ntmps43
  go_upto_region 1 with (first
    | (refine wpList_boxC _ rfl 24 _ rfl (sC (m : Int) 0 0 0) rfl ?_; intro w1 ss1 hg1)
    | (refine wpList_allocC _ rfl 28 rfl (gZ 0 0 0 0) (zeroG _) ?_; intro w2 rs2 hg2))
  have hG2 : Hid (w.grownBy w2 none) := Hid.mk' (gt hg1 hg2)
  have ss2 := ss1.kept0 hg2
  have hB2 : Hid (w.heap.size ≤ w1.heap.size) := Hid.mk' hg1.size
  clear hg1 hg2 ss1
  generalize w1.heap.size = B at *
  obtain ⟨SB, hSB⟩ : ∃ SB, Hid (w.heap.size = SB) := ⟨_, Hid.mk' rfl⟩
  rw [hSB.out] at ss2
  rw [hSB.out]
  have y0 := hy0.out _ hG2.out; have y1 := hy1.out _ hG2.out; have s0 := ss2.cell 0 rfl
  have hS : Hid (∀ wx, w.grownBy wx none → wx.cell? ⟨g, o, none⟩ = some (.int .u8 (b : Int)) ∧ wx.cell? ⟨g, o + 1, none⟩ = some (.int .u8 (c : Int))) := Hid.mk' (fun wx hg => ⟨hy0.out _ hg, hy1.out _ hg⟩)
  have rs20 := Hid.mk' rs2
  have ss20 := Hid.mk' ss2
  go_upto_region 5 with (fail)
  have hS0 := hS.out _ hG2.out
  have hSd := hS.out _ (grownBy_drew hG2.out)
  clear f0 f1 s0 rs2 ss2
  go_region_held3 (fun w' => w'.cell? ⟨g, o, none⟩ = some (.int .u8 (b : Int)) ∧ w'.cell? ⟨g, o + 1, none⟩ = some (.int .u8 (c : Int))) (first | assumption | exact hS0) (first
    | (go_at_call 49; refine (sc14 x y (by unfold C14.I64; omega) none hR _).mono ?_; rintro e w3 ⟨rfl, hg⟩; have hg23 : Hid (w2.grownBy w3 none) := Hid.mk' (by (repeat (first | with_reducible exact grownBy_refl _ _ | (with_reducible refine gs ?_ ?_; first | omega | (simp; omega)) | with_reducible refine ga ?_ | with_reducible refine gd ?_ | with_reducible refine gdn ?_ | with_reducible refine gt ?_ (by assumption)))); have hG3 : Hid (w.grownBy w3 none) := Hid.mk' (gt hG2.out hg23.out); have hS3 := hS.out _ hG3.out))
  have rs30 := Hid.mk' (rs20.out.kept0 hg23.out)
  have ss30 := Hid.mk' (ss20.out.kept0 hg23.out)
  have rs3 := rs30.out
  have ss3 := ss30.out
  go_wp2_with (first
    | (refine wpList_loadC _ rfl 24 _ rfl _ Try.underlying24 rfl SB (sC (m : Int) 0 0 0) infoS rfl ss3 ?_)
    | (refine wpList_storeC _ rfl 28 _ _ rfl B (gZ 0 0 0 0) (gM 10 2 0 0 (m : Int)) infoG rfl (gC_one _ _ _ _ _ _ _ _ _) rfl rfl rs3 ?_; intro wz rsz hgz))
  refine bodyPost_ret (v := .agg (gM 10 2 0 0 (m : Int))) (results_cell_row Try.results43 _ wz B 28 _ (0, 0) _ rfl rsz Try.underlying28 rfl infoG) rfl ⟨rfl, ?_⟩
  exact grownBy_new hG3.out hgz (fun k hk => by have h5 := Option.some.inj hk; have h6 := hB2.out; omega)
set_option maxRecDepth 100000 in
set_option maxHeartbeats 1000000 in
theorem p_n88a (m : Nat) (w : World) (g o : Nat) (b : Nat) (hy0 : Hid (∀ wx, w.grownBy wx none → wx.cell? ⟨g, o, none⟩ = some (.int .u8 (b : Int)))) (c : Nat) (hy1 : Hid (∀ wx, w.grownBy wx none → wx.cell? ⟨g, o + 1, none⟩ = some (.int .u8 (c : Int)))) (len cap : Nat) (hl1 : 0 < len) (hl2 : len ≤ cap) (hl3 : cap ≤ 9223372036854775807) (hl5 : 1 < len) (hl6 : ((len : Int) == 1) = false) (h1 : b < 256) (h3 : 33 ≤ c) (h4 : c ≤ 126) (x y : Int) (hx : (b : Int) - 32 = x) (hy : (c : Int) - 32 = y) (hR14 : Hid (C14.scP x y = none)) (hR : Hid (C16.scP x y = none)) : Calls Try.prog 43 #[.int .i64 88, stV (m : Int) 0 0 0, .slice (some ⟨g, o, none⟩) len cap] w fun e w' => e = .returned (.agg (gM 10 2 0 0 (m : Int))) ∧ w.grownBy w' none := by
  have f0 : decide ((c : Int) < 33) = false := by simp; omega
  have f1 : decide (126 < (c : Int)) = false := by simp; omega
  have e1 : (b : Int) - 32 = x := hx
  have hl7 : (1 : Int) < (len : Int) := by omega
  have hl8 : (0 : Int) < (len : Int) := by omega
  have e2 : (c : Int) - 32 = y := hy
  have e5 : IntKind.i64.wrap (b : Int) = (b : Int) := by rw [IntKind.wrap_i64]; omega
  have e6 : IntKind.i64.wrap (c : Int) = (c : Int) := by rw [IntKind.wrap_i64]; omega
  have e3 : IntKind.i64.wrap x = x := by rw [IntKind.wrap_i64]; omega
  have e4 : IntKind.i64.wrap y = y := by rw [IntKind.wrap_i64]; omega
  go_enter Try.func43, Try.ntmps43
  go_upto_region 1 with (first
    | (refine wpList_boxC _ rfl 24 _ rfl (sC (m : Int) 0 0 0) rfl ?_; intro w1 ss1 hg1)
    | (refine wpList_allocC _ rfl 28 rfl (gZ 0 0 0 0) (zeroG _) ?_; intro w2 rs2 hg2))
  have hG2 : Hid (w.grownBy w2 none) := Hid.mk' (gt hg1 hg2)
  have ss2 := ss1.kept0 hg2
  have hB2 : Hid (w.heap.size ≤ w1.heap.size) := Hid.mk' hg1.size
  clear hg1 hg2 ss1
  generalize w1.heap.size = B at *
  obtain ⟨SB, hSB⟩ : ∃ SB, Hid (w.heap.size = SB) := ⟨_, Hid.mk' rfl⟩
  rw [hSB.out] at ss2
  rw [hSB.out]
  have y0 := hy0.out _ hG2.out; have y1 := hy1.out _ hG2.out; have s0 := ss2.cell 0 rfl
  have hS : Hid (∀ wx, w.grownBy wx none → wx.cell? ⟨g, o, none⟩ = some (.int .u8 (b : Int)) ∧ wx.cell? ⟨g, o + 1, none⟩ = some (.int .u8 (c : Int))) := Hid.mk' (fun wx hg => ⟨hy0.out _ hg, hy1.out _ hg⟩)
  have rs20 := Hid.mk' rs2
  have ss20 := Hid.mk' ss2
  go_upto_region 5 with (fail)
  have hS0 := hS.out _ hG2.out
  have hSd := hS.out _ (grownBy_drew hG2.out)
  clear f0 f1 s0 rs2 ss2
  go_region_held3 (fun w' => w'.cell? ⟨g, o, none⟩ = some (.int .u8 (b : Int)) ∧ w'.cell? ⟨g, o + 1, none⟩ = some (.int .u8 (c : Int))) (first | assumption | exact hS0) (first
    | (go_at_call 49; refine (sc14 x y (by unfold C14.I64; omega) none hR14 _).mono ?_; rintro e w3 ⟨rfl, hg⟩; have hg23 : Hid (w2.grownBy w3 none) := Hid.mk' (by (repeat (first | with_reducible exact grownBy_refl _ _ | (with_reducible refine gs ?_ ?_; first | omega | (simp; omega)) | with_reducible refine ga ?_ | with_reducible refine gd ?_ | with_reducible refine gdn ?_ | with_reducible refine gt ?_ (by assumption)))); have hG3 : Hid (w.grownBy w3 none) := Hid.mk' (gt hG2.out hg23.out); have hS3 := hS.out _ hG3.out))
  have rs30 := Hid.mk' (rs20.out.kept0 hg23.out)
  have ss30 := Hid.mk' (ss20.out.kept0 hg23.out)
  go_upto_region 7 with (fail)
  have hS0 := hS.out _ hG3.out
  have hSd := hS.out _ (grownBy_drew hG3.out)
  go_region_held3 (fun w' => w'.cell? ⟨g, o, none⟩ = some (.int .u8 (b : Int)) ∧ w'.cell? ⟨g, o + 1, none⟩ = some (.int .u8 (c : Int))) (first | assumption | exact hS0) (first
    | (go_at_call 53; refine (sc16 x y (by unfold C16.I64; omega) none hR _).mono ?_; rintro e w4 ⟨rfl, hg⟩; have hg34 : Hid (w3.grownBy w4 none) := Hid.mk' (by (repeat (first | with_reducible exact grownBy_refl _ _ | (with_reducible refine gs ?_ ?_; first | omega | (simp; omega)) | with_reducible refine ga ?_ | with_reducible refine gd ?_ | with_reducible refine gdn ?_ | with_reducible refine gt ?_ (by assumption)))); have hG4 : Hid (w.grownBy w4 none) := Hid.mk' (gt hG3.out hg34.out); have hS4 := hS.out _ hG4.out))
  have rs40 := Hid.mk' (rs30.out.kept0 hg34.out)
  have ss40 := Hid.mk' (ss30.out.kept0 hg34.out)
  have rs4 := rs40.out
  have ss4 := ss40.out
  go_wp2_with (first
    | (refine wpList_loadC _ rfl 24 _ rfl _ Try.underlying24 rfl SB (sC (m : Int) 0 0 0) infoS rfl ss4 ?_)
    | (refine wpList_storeC _ rfl 28 _ _ rfl B (gZ 0 0 0 0) (gM 10 2 0 0 (m : Int)) infoG rfl (gC_one _ _ _ _ _ _ _ _ _) rfl rfl rs4 ?_; intro wz rsz hgz))
  refine bodyPost_ret (v := .agg (gM 10 2 0 0 (m : Int))) (results_cell_row Try.results43 _ wz B 28 _ (0, 0) _ rfl rsz Try.underlying28 rfl infoG) rfl ⟨rfl, ?_⟩
  exact grownBy_new hG4.out hgz (fun k hk => by have h5 := Option.some.inj hk; have h6 := hB2.out; omega)
set_option maxRecDepth 100000 in
set_option maxHeartbeats 1000000 in
theorem p_n88b (m : Nat) (w : World) (g o : Nat) (b : Nat) (hy0 : Hid (∀ wx, w.grownBy wx none → wx.cell? ⟨g, o, none⟩ = some (.int .u8 (b : Int)))) (c : Nat) (hy1 : Hid (∀ wx, w.grownBy wx none → wx.cell? ⟨g, o + 1, none⟩ = some (.int .u8 (c : Int)))) (len cap : Nat) (hl1 : 0 < len) (hl2 : len ≤ cap) (hl3 : cap ≤ 9223372036854775807) (hl5 : 1 < len) (hl6 : ((len : Int) == 1) = false) (h1 : b < 256) (h3 : 33 ≤ c) (h4 : c ≤ 126) (x y : Int) (hx : (b : Int) - 32 = x) (hy : (c : Int) - 32 = y) (n14 : Nat) (hR14 : Hid (C14.scP x y = (some n14))) (hR : Hid (C16.scP x y = none)) : Calls Try.prog 43 #[.int .i64 88, stV (m : Int) 0 0 0, .slice (some ⟨g, o, none⟩) len cap] w fun e w' => e = .returned (.agg (gM 10 2 0 0 (m : Int))) ∧ w.grownBy w' none := by
  have f0 : decide ((c : Int) < 33) = false := by simp; omega
  have f1 : decide (126 < (c : Int)) = false := by simp; omega
  have e1 : (b : Int) - 32 = x := hx
  have hl7 : (1 : Int) < (len : Int) := by omega
  have hl8 : (0 : Int) < (len : Int) := by omega
  have e2 : (c : Int) - 32 = y := hy
  have e5 : IntKind.i64.wrap (b : Int) = (b : Int) := by rw [IntKind.wrap_i64]; omega
  have e6 : IntKind.i64.wrap (c : Int) = (c : Int) := by rw [IntKind.wrap_i64]; omega
  have e3 : IntKind.i64.wrap x = x := by rw [IntKind.wrap_i64]; omega
  have e4 : IntKind.i64.wrap y = y := by rw [IntKind.wrap_i64]; omega
  go_enter Try.func43, Try.ntmps43
  go_upto_region 1 with (first
    | (refine wpList_boxC _ rfl 24 _ rfl (sC (m : Int) 0 0 0) rfl ?_; intro w1 ss1 hg1)
    | (refine wpList_allocC _ rfl 28 rfl (gZ 0 0 0 0) (zeroG _) ?_; intro w2 rs2 hg2))
  have hG2 : Hid (w.grownBy w2 none) := Hid.mk' (gt hg1 hg2)
  have ss2 := ss1.kept0 hg2
  have hB2 : Hid (w.heap.size ≤ w1.heap.size) := Hid.mk' hg1.size
  clear hg1 hg2 ss1
  generalize w1.heap.size = B at *
  obtain ⟨SB, hSB⟩ : ∃ SB, Hid (w.heap.size = SB) := ⟨_, Hid.mk' rfl⟩
  rw [hSB.out] at ss2
  rw [hSB.out]
  have y0 := hy0.out _ hG2.out; have y1 := hy1.out _ hG2.out; have s0 := ss2.cell 0 rfl
  have hS : Hid (∀ wx, w.grownBy wx none → wx.cell? ⟨g, o, none⟩ = some (.int .u8 (b : Int)) ∧ wx.cell? ⟨g, o + 1, none⟩ = some (.int .u8 (c : Int))) := Hid.mk' (fun wx hg => ⟨hy0.out _ hg, hy1.out _ hg⟩)
  have rs20 := Hid.mk' rs2
  have ss20 := Hid.mk' ss2
  go_upto_region 5 with (fail)
  have hS0 := hS.out _ hG2.out
  have hSd := hS.out _ (grownBy_drew hG2.out)
  clear f0 f1 s0 rs2 ss2
  go_region_held3 (fun w' => w'.cell? ⟨g, o, none⟩ = some (.int .u8 (b : Int)) ∧ w'.cell? ⟨g, o + 1, none⟩ = some (.int .u8 (c : Int))) (first | assumption | exact hS0) (first
    | (go_at_call 49; refine (sc14 x y (by unfold C14.I64; omega) (some n14) hR14 _).mono ?_; rintro e w3 ⟨rfl, hg⟩; have hg23 : Hid (w2.grownBy w3 none) := Hid.mk' (by (repeat (first | with_reducible exact grownBy_refl _ _ | (with_reducible refine gs ?_ ?_; first | omega | (simp; omega)) | with_reducible refine ga ?_ | with_reducible refine gd ?_ | with_reducible refine gdn ?_ | with_reducible refine gt ?_ (by assumption)))); have hG3 : Hid (w.grownBy w3 none) := Hid.mk' (gt hG2.out hg23.out); have hS3 := hS.out _ hG3.out))
  have rs30 := Hid.mk' (rs20.out.kept0 hg23.out)
  have ss30 := Hid.mk' (ss20.out.kept0 hg23.out)
  go_upto_region 7 with (fail)
  have hS0 := hS.out _ hG3.out
  have hSd := hS.out _ (grownBy_drew hG3.out)
  go_region_held3 (fun w' => w'.cell? ⟨g, o, none⟩ = some (.int .u8 (b : Int)) ∧ w'.cell? ⟨g, o + 1, none⟩ = some (.int .u8 (c : Int))) (first | assumption | exact hS0) (first
    | (go_at_call 53; refine (sc16 x y (by unfold C16.I64; omega) none hR _).mono ?_; rintro e w4 ⟨rfl, hg⟩; have hg34 : Hid (w3.grownBy w4 none) := Hid.mk' (by (repeat (first | with_reducible exact grownBy_refl _ _ | (with_reducible refine gs ?_ ?_; first | omega | (simp; omega)) | with_reducible refine ga ?_ | with_reducible refine gd ?_ | with_reducible refine gdn ?_ | with_reducible refine gt ?_ (by assumption)))); have hG4 : Hid (w.grownBy w4 none) := Hid.mk' (gt hG3.out hg34.out); have hS4 := hS.out _ hG4.out))
  have rs40 := Hid.mk' (rs30.out.kept0 hg34.out)
  have ss40 := Hid.mk' (ss30.out.kept0 hg34.out)
  have rs4 := rs40.out
  have ss4 := ss40.out
  go_wp2_with (first
    | (refine wpList_loadC _ rfl 24 _ rfl _ Try.underlying24 rfl SB (sC (m : Int) 0 0 0) infoS rfl ss4 ?_)
    | (refine wpList_storeC _ rfl 28 _ _ rfl B (gZ 0 0 0 0) (gM 10 2 0 0 (m : Int)) infoG rfl (gC_one _ _ _ _ _ _ _ _ _) rfl rfl rs4 ?_; intro wz rsz hgz))
  refine bodyPost_ret (v := .agg (gM 10 2 0 0 (m : Int))) (results_cell_row Try.results43 _ wz B 28 _ (0, 0) _ rfl rsz Try.underlying28 rfl infoG) rfl ⟨rfl, ?_⟩
  exact grownBy_new hG4.out hgz (fun k hk => by have h5 := Option.some.inj hk; have h6 := hB2.out; omega)
set_option maxRecDepth 100000 in
set_option maxHeartbeats 1000000 in
theorem p_s83 (m : Nat) (w : World) (g o : Nat) (b : Nat) (hy0 : Hid (∀ wx, w.grownBy wx none → wx.cell? ⟨g, o, none⟩ = some (.int .u8 (b : Int)))) (c : Nat) (hy1 : Hid (∀ wx, w.grownBy wx none → wx.cell? ⟨g, o + 1, none⟩ = some (.int .u8 (c : Int)))) (len cap : Nat) (hl1 : 0 < len) (hl2 : len ≤ cap) (hl3 : cap ≤ 9223372036854775807) (hl5 : 1 < len) (hl6 : ((len : Int) == 1) = false) (h1 : b < 256) (h3 : 33 ≤ c) (h4 : c ≤ 126) (x y : Int) (hx : (b : Int) - 32 = x) (hy : (c : Int) - 32 = y) (n : Nat) (hR : Hid (C14.scP x y = (some n))) : Calls Try.prog 43 #[.int .i64 83, stV (m : Int) 0 0 0, .slice (some ⟨g, o, none⟩) len cap] w fun e w' => e = .returned (.agg (gM 0 2 1 (n : Int) (m : Int))) ∧ w.grownBy w' none := by
  have f0 : decide ((c : Int) < 33) = false := by simp; omega
  have f1 : decide (126 < (c : Int)) = false := by simp; omega
  have e1 : (b : Int) - 32 = x := hx
  have hl7 : (1 : Int) < (len : Int) := by omega
  have hl8 : (0 : Int) < (len : Int) := by omega
  have e2 : (c : Int) - 32 = y := hy
  have e5 : IntKind.i64.wrap (b : Int) = (b : Int) := by rw [IntKind.wrap_i64]; omega
  have e6 : IntKind.i64.wrap (c : Int) = (c : Int) := by rw [IntKind.wrap_i64]; omega
  have e3 : IntKind.i64.wrap x = x := by rw [IntKind.wrap_i64]; omega
  have e4 : IntKind.i64.wrap y = y := by rw [IntKind.wrap_i64]; omega
  go_enter Try.func43, Try.ntmps43
  go_upto_region 1 with (first
    | (refine wpList_boxC _ rfl 24 _ rfl (sC (m : Int) 0 0 0) rfl ?_; intro w1 ss1 hg1)
    | (refine wpList_allocC _ rfl 28 rfl (gZ 0 0 0 0) (zeroG _) ?_; intro w2 rs2 hg2))
  have hG2 : Hid (w.grownBy w2 none) := Hid.mk' (gt hg1 hg2)
  have ss2 := ss1.kept0 hg2
  have hB2 : Hid (w.heap.size ≤ w1.heap.size) := Hid.mk' hg1.size
  clear hg1 hg2 ss1
  generalize w1.heap.size = B at *
  obtain ⟨SB, hSB⟩ : ∃ SB, Hid (w.heap.size = SB) := ⟨_, Hid.mk' rfl⟩
  rw [hSB.out] at ss2
  rw [hSB.out]
  have y0 := hy0.out _ hG2.out; have y1 := hy1.out _ hG2.out; have s0 := ss2.cell 0 rfl
  have hS : Hid (∀ wx, w.grownBy wx none → wx.cell? ⟨g, o, none⟩ = some (.int .u8 (b : Int)) ∧ wx.cell? ⟨g, o + 1, none⟩ = some (.int .u8 (c : Int))) := Hid.mk' (fun wx hg => ⟨hy0.out _ hg, hy1.out _ hg⟩)
  have rs20 := Hid.mk' rs2
  have ss20 := Hid.mk' ss2
  go_upto_region 5 with (fail)
  have hS0 := hS.out _ hG2.out
  have hSd := hS.out _ (grownBy_drew hG2.out)
  clear f0 f1 s0 rs2 ss2
  go_region_held3 (fun w' => w'.cell? ⟨g, o, none⟩ = some (.int .u8 (b : Int)) ∧ w'.cell? ⟨g, o + 1, none⟩ = some (.int .u8 (c : Int))) (first | assumption | exact hS0) (first
    | (go_at_call 49; refine (sc14 x y (by unfold C14.I64; omega) (some n) hR _).mono ?_; rintro e w3 ⟨rfl, hg⟩; have hg23 : Hid (w2.grownBy w3 none) := Hid.mk' (by (repeat (first | with_reducible exact grownBy_refl _ _ | (with_reducible refine gs ?_ ?_; first | omega | (simp; omega)) | with_reducible refine ga ?_ | with_reducible refine gd ?_ | with_reducible refine gdn ?_ | with_reducible refine gt ?_ (by assumption)))); have hG3 : Hid (w.grownBy w3 none) := Hid.mk' (gt hG2.out hg23.out); have hS3 := hS.out _ hG3.out))
  have rs30 := Hid.mk' (rs20.out.kept0 hg23.out)
  have ss30 := Hid.mk' (ss20.out.kept0 hg23.out)
  have rs3 := rs30.out
  have ss3 := ss30.out
  go_wp2_with (first
    | (refine wpList_loadC _ rfl 24 _ rfl _ Try.underlying24 rfl SB (sC (m : Int) 0 0 0) infoS rfl ss3 ?_)
    | (refine wpList_storeC _ rfl 28 _ _ rfl B (gZ 0 0 0 0) (gM 0 2 1 (n : Int) (m : Int)) infoG rfl (gC_one _ _ _ _ _ _ _ _ _) rfl rfl rs3 ?_; intro wz rsz hgz))
  refine bodyPost_ret (v := .agg (gM 0 2 1 (n : Int) (m : Int))) (results_cell_row Try.results43 _ wz B 28 _ (0, 0) _ rfl rsz Try.underlying28 rfl infoG) rfl ⟨rfl, ?_⟩
  exact grownBy_new hG3.out hgz (fun k hk => by have h5 := Option.some.inj hk; have h6 := hB2.out; omega)
set_option maxRecDepth 100000 in
set_option maxHeartbeats 1000000 in
theorem p_s88a (m : Nat) (w : World) (g o : Nat) (b : Nat) (hy0 : Hid (∀ wx, w.grownBy wx none → wx.cell? ⟨g, o, none⟩ = some (.int .u8 (b : Int)))) (c : Nat) (hy1 : Hid (∀ wx, w.grownBy wx none → wx.cell? ⟨g, o + 1, none⟩ = some (.int .u8 (c : Int)))) (len cap : Nat) (hl1 : 0 < len) (hl2 : len ≤ cap) (hl3 : cap ≤ 9223372036854775807) (hl5 : 1 < len) (hl6 : ((len : Int) == 1) = false) (h1 : b < 256) (h3 : 33 ≤ c) (h4 : c ≤ 126) (x y : Int) (hx : (b : Int) - 32 = x) (hy : (c : Int) - 32 = y) (n : Nat) (hR14 : Hid (C14.scP x y = none)) (hR : Hid (C16.scP x y = (some n))) : Calls Try.prog 43 #[.int .i64 88, stV (m : Int) 0 0 0, .slice (some ⟨g, o, none⟩) len cap] w fun e w' => e = .returned (.agg (gM 0 2 1 (n : Int) (m : Int))) ∧ w.grownBy w' none := by
  have f0 : decide ((c : Int) < 33) = false := by simp; omega
  have f1 : decide (126 < (c : Int)) = false := by simp; omega
  have e1 : (b : Int) - 32 = x := hx
  have hl7 : (1 : Int) < (len : Int) := by omega
  have hl8 : (0 : Int) < (len : Int) := by omega
  have e2 : (c : Int) - 32 = y := hy
  have e5 : IntKind.i64.wrap (b : Int) = (b : Int) := by rw [IntKind.wrap_i64]; omega
  have e6 : IntKind.i64.wrap (c : Int) = (c : Int) := by rw [IntKind.wrap_i64]; omega
  have e3 : IntKind.i64.wrap x = x := by rw [IntKind.wrap_i64]; omega
  have e4 : IntKind.i64.wrap y = y := by rw [IntKind.wrap_i64]; omega
  go_enter Try.func43, Try.ntmps43
  go_upto_region 1 with (first
    | (refine wpList_boxC _ rfl 24 _ rfl (sC (m : Int) 0 0 0) rfl ?_; intro w1 ss1 hg1)
    | (refine wpList_allocC _ rfl 28 rfl (gZ 0 0 0 0) (zeroG _) ?_; intro w2 rs2 hg2))
  have hG2 : Hid (w.grownBy w2 none) := Hid.mk' (gt hg1 hg2)
  have ss2 := ss1.kept0 hg2
  have hB2 : Hid (w.heap.size ≤ w1.heap.size) := Hid.mk' hg1.size
  clear hg1 hg2 ss1
  generalize w1.heap.size = B at *
  obtain ⟨SB, hSB⟩ : ∃ SB, Hid (w.heap.size = SB) := ⟨_, Hid.mk' rfl⟩
  rw [hSB.out] at ss2
  rw [hSB.out]
  have y0 := hy0.out _ hG2.out; have y1 := hy1.out _ hG2.out; have s0 := ss2.cell 0 rfl
  have hS : Hid (∀ wx, w.grownBy wx none → wx.cell? ⟨g, o, none⟩ = some (.int .u8 (b : Int)) ∧ wx.cell? ⟨g, o + 1, none⟩ = some (.int .u8 (c : Int))) := Hid.mk' (fun wx hg => ⟨hy0.out _ hg, hy1.out _ hg⟩)
  have rs20 := Hid.mk' rs2
  have ss20 := Hid.mk' ss2
  go_upto_region 5 with (fail)
  have hS0 := hS.out _ hG2.out
  have hSd := hS.out _ (grownBy_drew hG2.out)
  clear f0 f1 s0 rs2 ss2
  go_region_held3 (fun w' => w'.cell? ⟨g, o, none⟩ = some (.int .u8 (b : Int)) ∧ w'.cell? ⟨g, o + 1, none⟩ = some (.int .u8 (c : Int))) (first | assumption | exact hS0) (first
    | (go_at_call 49; refine (sc14 x y (by unfold C14.I64; omega) none hR14 _).mono ?_; rintro e w3 ⟨rfl, hg⟩; have hg23 : Hid (w2.grownBy w3 none) := Hid.mk' (by (repeat (first | with_reducible exact grownBy_refl _ _ | (with_reducible refine gs ?_ ?_; first | omega | (simp; omega)) | with_reducible refine ga ?_ | with_reducible refine gd ?_ | with_reducible refine gdn ?_ | with_reducible refine gt ?_ (by assumption)))); have hG3 : Hid (w.grownBy w3 none) := Hid.mk' (gt hG2.out hg23.out); have hS3 := hS.out _ hG3.out))
  have rs30 := Hid.mk' (rs20.out.kept0 hg23.out)
  have ss30 := Hid.mk' (ss20.out.kept0 hg23.out)
  go_upto_region 7 with (fail)
  have hS0 := hS.out _ hG3.out
  have hSd := hS.out _ (grownBy_drew hG3.out)
  go_region_held3 (fun w' => w'.cell? ⟨g, o, none⟩ = some (.int .u8 (b : Int)) ∧ w'.cell? ⟨g, o + 1, none⟩ = some (.int .u8 (c : Int))) (first | assumption | exact hS0) (first
    | (go_at_call 53; refine (sc16 x y (by unfold C16.I64; omega) (some n) hR _).mono ?_; rintro e w4 ⟨rfl, hg⟩; have hg34 : Hid (w3.grownBy w4 none) := Hid.mk' (by (repeat (first | with_reducible exact grownBy_refl _ _ | (with_reducible refine gs ?_ ?_; first | omega | (simp; omega)) | with_reducible refine ga ?_ | with_reducible refine gd ?_ | with_reducible refine gdn ?_ | with_reducible refine gt ?_ (by assumption)))); have hG4 : Hid (w.grownBy w4 none) := Hid.mk' (gt hG3.out hg34.out); have hS4 := hS.out _ hG4.out))
  have rs40 := Hid.mk' (rs30.out.kept0 hg34.out)
  have ss40 := Hid.mk' (ss30.out.kept0 hg34.out)
  have rs4 := rs40.out
  have ss4 := ss40.out
  go_wp2_with (first
    | (refine wpList_loadC _ rfl 24 _ rfl _ Try.underlying24 rfl SB (sC (m : Int) 0 0 0) infoS rfl ss4 ?_)
    | (refine wpList_storeC _ rfl 28 _ _ rfl B (gZ 0 0 0 0) (gM 0 2 1 (n : Int) (m : Int)) infoG rfl (gC_one _ _ _ _ _ _ _ _ _) rfl rfl rs4 ?_; intro wz rsz hgz))
  refine bodyPost_ret (v := .agg (gM 0 2 1 (n : Int) (m : Int))) (results_cell_row Try.results43 _ wz B 28 _ (0, 0) _ rfl rsz Try.underlying28 rfl infoG) rfl ⟨rfl, ?_⟩
  exact grownBy_new hG4.out hgz (fun k hk => by have h5 := Option.some.inj hk; have h6 := hB2.out; omega)
set_option maxRecDepth 100000 in
set_option maxHeartbeats 1000000 in
theorem p_s88b (m : Nat) (w : World) (g o : Nat) (b : Nat) (hy0 : Hid (∀ wx, w.grownBy wx none → wx.cell? ⟨g, o, none⟩ = some (.int .u8 (b : Int)))) (c : Nat) (hy1 : Hid (∀ wx, w.grownBy wx none → wx.cell? ⟨g, o + 1, none⟩ = some (.int .u8 (c : Int)))) (len cap : Nat) (hl1 : 0 < len) (hl2 : len ≤ cap) (hl3 : cap ≤ 9223372036854775807) (hl5 : 1 < len) (hl6 : ((len : Int) == 1) = false) (h1 : b < 256) (h3 : 33 ≤ c) (h4 : c ≤ 126) (x y : Int) (hx : (b : Int) - 32 = x) (hy : (c : Int) - 32 = y) (n : Nat) (n14 : Nat) (hR14 : Hid (C14.scP x y = (some n14))) (hR : Hid (C16.scP x y = (some n))) : Calls Try.prog 43 #[.int .i64 88, stV (m : Int) 0 0 0, .slice (some ⟨g, o, none⟩) len cap] w fun e w' => e = .returned (.agg (gM 0 2 1 (n : Int) (m : Int))) ∧ w.grownBy w' none := by
  have f0 : decide ((c : Int) < 33) = false := by simp; omega
  have f1 : decide (126 < (c : Int)) = false := by simp; omega
  have e1 : (b : Int) - 32 = x := hx
  have hl7 : (1 : Int) < (len : Int) := by omega
  have hl8 : (0 : Int) < (len : Int) := by omega
  have e2 : (c : Int) - 32 = y := hy
  have e5 : IntKind.i64.wrap (b : Int) = (b : Int) := by rw [IntKind.wrap_i64]; omega
  have e6 : IntKind.i64.wrap (c : Int) = (c : Int) := by rw [IntKind.wrap_i64]; omega
  have e3 : IntKind.i64.wrap x = x := by rw [IntKind.wrap_i64]; omega
  have e4 : IntKind.i64.wrap y = y := by rw [IntKind.wrap_i64]; omega
  go_enter Try.func43, Try.ntmps43
  go_upto_region 1 with (first
    | (refine wpList_boxC _ rfl 24 _ rfl (sC (m : Int) 0 0 0) rfl ?_; intro w1 ss1 hg1)
    | (refine wpList_allocC _ rfl 28 rfl (gZ 0 0 0 0) (zeroG _) ?_; intro w2 rs2 hg2))
  have hG2 : Hid (w.grownBy w2 none) := Hid.mk' (gt hg1 hg2)
  have ss2 := ss1.kept0 hg2
  have hB2 : Hid (w.heap.size ≤ w1.heap.size) := Hid.mk' hg1.size
  clear hg1 hg2 ss1
  generalize w1.heap.size = B at *
  obtain ⟨SB, hSB⟩ : ∃ SB, Hid (w.heap.size = SB) := ⟨_, Hid.mk' rfl⟩
  rw [hSB.out] at ss2
  rw [hSB.out]
  have y0 := hy0.out _ hG2.out; have y1 := hy1.out _ hG2.out; have s0 := ss2.cell 0 rfl
  have hS : Hid (∀ wx, w.grownBy wx none → wx.cell? ⟨g, o, none⟩ = some (.int .u8 (b : Int)) ∧ wx.cell? ⟨g, o + 1, none⟩ = some (.int .u8 (c : Int))) := Hid.mk' (fun wx hg => ⟨hy0.out _ hg, hy1.out _ hg⟩)
  have rs20 := Hid.mk' rs2
  have ss20 := Hid.mk' ss2
  go_upto_region 5 with (fail)
  have hS0 := hS.out _ hG2.out
  have hSd := hS.out _ (grownBy_drew hG2.out)
  clear f0 f1 s0 rs2 ss2
  go_region_held3 (fun w' => w'.cell? ⟨g, o, none⟩ = some (.int .u8 (b : Int)) ∧ w'.cell? ⟨g, o + 1, none⟩ = some (.int .u8 (c : Int))) (first | assumption | exact hS0) (first
    | (go_at_call 49; refine (sc14 x y (by unfold C14.I64; omega) (some n14) hR14 _).mono ?_; rintro e w3 ⟨rfl, hg⟩; have hg23 : Hid (w2.grownBy w3 none) := Hid.mk' (by (repeat (first | with_reducible exact grownBy_refl _ _ | (with_reducible refine gs ?_ ?_; first | omega | (simp; omega)) | with_reducible refine ga ?_ | with_reducible refine gd ?_ | with_reducible refine gdn ?_ | with_reducible refine gt ?_ (by assumption)))); have hG3 : Hid (w.grownBy w3 none) := Hid.mk' (gt hG2.out hg23.out); have hS3 := hS.out _ hG3.out))
  have rs30 := Hid.mk' (rs20.out.kept0 hg23.out)
  have ss30 := Hid.mk' (ss20.out.kept0 hg23.out)
  go_upto_region 7 with (fail)
  have hS0 := hS.out _ hG3.out
  have hSd := hS.out _ (grownBy_drew hG3.out)
  go_region_held3 (fun w' => w'.cell? ⟨g, o, none⟩ = some (.int .u8 (b : Int)) ∧ w'.cell? ⟨g, o + 1, none⟩ = some (.int .u8 (c : Int))) (first | assumption | exact hS0) (first
    | (go_at_call 53; refine (sc16 x y (by unfold C16.I64; omega) (some n) hR _).mono ?_; rintro e w4 ⟨rfl, hg⟩; have hg34 : Hid (w3.grownBy w4 none) := Hid.mk' (by (repeat (first | with_reducible exact grownBy_refl _ _ | (with_reducible refine gs ?_ ?_; first | omega | (simp; omega)) | with_reducible refine ga ?_ | with_reducible refine gd ?_ | with_reducible refine gdn ?_ | with_reducible refine gt ?_ (by assumption)))); have hG4 : Hid (w.grownBy w4 none) := Hid.mk' (gt hG3.out hg34.out); have hS4 := hS.out _ hG4.out))
  have rs40 := Hid.mk' (rs30.out.kept0 hg34.out)
  have ss40 := Hid.mk' (ss30.out.kept0 hg34.out)
  have rs4 := rs40.out
  have ss4 := ss40.out
  go_wp2_with (first
    | (refine wpList_loadC _ rfl 24 _ rfl _ Try.underlying24 rfl SB (sC (m : Int) 0 0 0) infoS rfl ss4 ?_)
    | (refine wpList_storeC _ rfl 28 _ _ rfl B (gZ 0 0 0 0) (gM 0 2 1 (n : Int) (m : Int)) infoG rfl (gC_one _ _ _ _ _ _ _ _ _) rfl rfl rs4 ?_; intro wz rsz hgz))
  refine bodyPost_ret (v := .agg (gM 0 2 1 (n : Int) (m : Int))) (results_cell_row Try.results43 _ wz B 28 _ (0, 0) _ rfl rsz Try.underlying28 rfl infoG) rfl ⟨rfl, ?_⟩
  exact grownBy_new hG4.out hgz (fun k hk => by have h5 := Option.some.inj hk; have h6 := hB2.out; omega)
theorem pairRef (k : Int) (hk : k = 83 ∨ k = 88) (m : Nat) (ao : Option Addr) (cap : Nat) (b : UInt8) (r : List UInt8) (n : Nat) (hn : (b :: r).length = n) (w : World) (hB : Bytes w ao (b :: r)) (hc : n ≤ cap) (hcm : cap ≤ 9223372036854775807) : Calls Try.prog 43 #[.int .i64 k, stV (m : Int) 0 0 0, .slice ao n cap] w fun e w' => e = .returned (gotV (pr k m b.toNat r)) ∧ w.grownBy w' none := by
  subst hn
  obtain ⟨g, o, rfl, hy0⟩ := first_cell hB
  have hy := Hid.mk' hy0
  have hb := b.toNat_lt
  have hl1 : 0 < (b :: r).length := by simp
  unfold pr
  cases r with
  | nil =>
    rcases hk with rfl | rfl
    · exact p_one83 m w g o _ hy cap hc hcm
    · exact p_one88 m w g o _ hy cap hc hcm
  | cons c r =>
    have hy1 := Hid.mk' (second_cell hB)
    have hcc := c.toNat_lt
    have hl5 : 1 < (b :: c :: r).length := by simp
    have hl6 : (((b :: c :: r).length : Int) == 1) = false := by simp; omega
    simp only
    by_cases h4 : c.toNat < 33
    · rw [if_pos (.inl h4)]
      rcases hk with rfl | rfl
      · exact p_lo83 m w g o _ hy _ hy1 _ cap hl1 hc hcm hl5 hl6 h4
      · exact p_lo88 m w g o _ hy _ hy1 _ cap hl1 hc hcm hl5 hl6 h4
    · by_cases h5 : 126 < c.toNat
      · rw [if_pos (.inr h5)]
        rcases hk with rfl | rfl
        · exact p_hi83 m w g o _ hy _ hy1 _ cap hl1 hc hcm hl5 hl6 h5
        · exact p_hi88 m w g o _ hy _ hy1 _ cap hl1 hc hcm hl5 hl6 h5
      · rw [if_neg (by omega)]
        rcases hk with rfl | rfl
        · rw [if_neg (by omega)]
          cases hs : C14.scP ((b.toNat : Int) - 32) ((c.toNat : Int) - 32) with
          | none => exact p_n83 m w g o _ hy _ hy1 _ cap hl1 hc hcm hl5 hl6 hb (by omega) (by omega) _ _ rfl rfl (Hid.mk' hs)
          | some v => exact p_s83 m w g o _ hy _ hy1 _ cap hl1 hc hcm hl5 hl6 hb (by omega) (by omega) _ _ rfl rfl v (Hid.mk' hs)
        · rw [if_pos rfl]
          cases hs : C16.scP ((b.toNat : Int) - 32) ((c.toNat : Int) - 32) with
          | none =>
            cases ht : C14.scP ((b.toNat : Int) - 32) ((c.toNat : Int) - 32) with
            | none => exact p_n88a m w g o _ hy _ hy1 _ cap hl1 hc hcm hl5 hl6 hb (by omega) (by omega) _ _ rfl rfl (Hid.mk' ht) (Hid.mk' hs)
            | some v => exact p_n88b m w g o _ hy _ hy1 _ cap hl1 hc hcm hl5 hl6 hb (by omega) (by omega) _ _ rfl rfl v (Hid.mk' ht) (Hid.mk' hs)
          | some u =>
            cases ht : C14.scP ((b.toNat : Int) - 32) ((c.toNat : Int) - 32) with
            | none => exact p_s88a m w g o _ hy _ hy1 _ cap hl1 hc hcm hl5 hl6 hb (by omega) (by omega) _ _ rfl rfl u (Hid.mk' ht) (Hid.mk' hs)
            | some v => exact p_s88b m w g o _ hy _ hy1 _ cap hl1 hc hcm hl5 hl6 hb (by omega) (by omega) _ _ rfl rfl u v (Hid.mk' ht) (Hid.mk' hs)
end Go.Proofs.Ytdobjijebalkkaa.C21
