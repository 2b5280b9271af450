/- The program's unit, pair, Get and Set of layer 18: walks, a way each. -/
import Derived.Test.YtkkdaoimnmghgaaFN18
import Derived.Test.YtkkdaoimnmghgaaRegion
import Derived.Test.YtkkdaoimnmghgaaCs
import Derived.Deep.RegionHeld3
import Derived.BigQuiet
namespace Go.Proofs.Ytkkdaoimnmghgaa.C18
open Go.ChangeShapes Go.WideShapes Go.ChangeAt Go.RowKit Go.Proofs.Ytkkdaoimnmghgaa.Mem Go.Proofs.Ytkkdaoimnmghgaa.Cb Go.Proofs.Ytkkdaoimnmghgaa.Sp
set_option linter.unusedVariables false
set_option linter.unusedSimpArgs false

abbrev aC (x y : Int) : Array Value := #[.int .u8 x, .int .u8 y]
theorem infoA2 : (Try.prog.info? 55).map (·.size) = some 2 := by kernel_rfl
theorem zeroA2 (w : World) : (zeroValue 55).run Try.prog w = .ok (.agg (aC 0 0)) w := by kernel_rfl
theorem aC_one (x y : Int) : (aC x y).all (·.oneCell') = true := by kernel_rfl
theorem ca_bytes {w : World} {B T : Nat} {x y : Nat} (hx : x < 256) (hy : y < 256) (h : CA w B T (aC (x : Int) (y : Int))) : Bytes w (some ⟨B, 0, none⟩) [b8 x, b8 y] := .inr ⟨_, rfl, fun j hj => by
  have hj2 : j < 2 := hj
  rw [addr_add]
  match j, hj2 with
  | 0, _ => refine h.cell 0 ?_; simp [b8_nat hx]
  | 1, _ => refine h.cell 1 ?_; simp [b8_nat hy]⟩
theorem conv_ca {w : World} {B T : Nat} {x y : Nat} (hx : x < 256) (hy : y < 256) (h : CA w B T (aC (x : Int) (y : Int))) : (convert 22 9 (.slice (some ⟨B, 0, none⟩) 2 2)).run Try.prog w = .ok (.string (str [b8 x, b8 y])) w := conv (ca_bytes hx hy h) 22 9 2 Try.underlying22 Try.underlying5 Try.underlying9
theorem pHalfS (c : Nat) (hc : c < 256) (n : Nat) (hn : Hid (C14.haR c = some n)) (w : World) : Calls Try.prog 20 #[.int .u8 (c : Int)] w fun e w' => e = .returned (.tuple #[.int .i32 (n : Int), .bool true]) ∧ w.grownBy w' none :=
  (C14.pHalf c hc w (some n) hn).mono (fun e w' h => ⟨h.1, by rw [h.2]; exact grownBy_refl _ _⟩)
theorem pHalfN (c : Nat) (hc : c < 256) (hn : Hid (C14.haR c = none)) (w : World) : Calls Try.prog 20 #[.int .u8 (c : Int)] w fun e w' => e = .returned (.tuple #[.int .i32 0, .bool false]) ∧ w.grownBy w' none :=
  (C14.pHalf c hc w none hn).mono (fun e w' h => ⟨h.1, by rw [h.2]; exact grownBy_refl _ _⟩)
theorem pHbS (u : Int) (b : Nat) (hb : Hid (C14.hbR u = some b)) (w : World) : Calls Try.prog 24 #[.int .i32 u] w fun e w' => e = .returned (.tuple #[.int .u8 (b : Int), .bool true]) ∧ w.grownBy w' none :=
  (C14.pHalfByte u w (some b) hb).mono (fun e w' h => ⟨h.1, by rw [h.2]; exact grownBy_refl _ _⟩)
theorem pHbN (u : Int) (hb : Hid (C14.hbR u = none)) (w : World) : Calls Try.prog 24 #[.int .i32 u] w fun e w' => e = .returned (.tuple #[.int .u8 0, .bool false]) ∧ w.grownBy w' none :=
  (C14.pHalfByte u w none hb).mono (fun e w' h => ⟨h.1, by rw [h.2]; exact grownBy_refl _ _⟩)
theorem pScS (r c : Int) (hc : C14.I64 c) (n : Nat) (hR : Hid (C14.scP r c = some n)) (w : World) : Calls Try.prog 32 #[.int .i64 r, .int .i64 c] w fun e w' => e = .returned (.tuple #[.int .i32 (n : Int), .bool true]) ∧ w.grownBy w' none := C14.pScalar r c hc w (some n) hR
theorem pScN (r c : Int) (hc : C14.I64 c) (hR : Hid (C14.scP r c = none)) (w : World) : Calls Try.prog 32 #[.int .i64 r, .int .i64 c] w fun e w' => e = .returned (.tuple #[.int .i32 0, .bool false]) ∧ w.grownBy w' none := C14.pScalar r c hc w none hR
set_option maxRecDepth 100000 in
set_option maxHeartbeats 1000000 in
theorem un_no (n u : Int) (w : World) : Calls Try.prog 21 #[.int .i64 n, .int .i32 u, .bool false] w fun e w' => e = .returned (.agg (gZ 10 n 0 0)) ∧ w.grownBy w' none := by
  go_enter Try.func21, Try.ntmps21
  go_upto_region 1 with (first
    | (refine wpList_allocC _ rfl 28 rfl (gZ 0 0 0 0) (zeroG _) ?_; intro w1 rs1 hgr))
  have hG1 : Hid (w.grownBy w1 none) := Hid.mk' hgr
  have hB2 : Hid (w.heap.size ≤ w.heap.size) := Hid.mk' (Nat.le_refl _)
  obtain ⟨B, hBe⟩ : ∃ B, Hid (w.heap.size = B) := ⟨_, Hid.mk' rfl⟩
  replace hB2 : Hid (w.heap.size ≤ B) := Hid.mk' (by rw [← hBe.out]; exact hB2.out)
  rw [hBe.out] at rs1
  first | rw [hBe.out] | skip
  clear hgr
  go_wp2_with (first
    | (refine wpList_storeC _ rfl 28 _ _ rfl B (gZ 0 0 0 0) (gZ 10 n 0 0) infoG rfl (gC_one _ _ _ _ _ _ _ _ _) rfl rfl rs1 ?_; intro wz rsz hgz))
  refine bodyPost_ret (v := .agg (gZ 10 n 0 0)) (results_cell_row Try.results21 _ wz B 28 _ (0, 0) _ rfl rsz Try.underlying28 rfl infoG) rfl ⟨rfl, ?_⟩
  exact grownBy_new hG1.out hgz (fun k hk => by have h5 := Option.some.inj hk; have h6 := hB2.out; omega)
set_option maxRecDepth 100000 in
set_option maxHeartbeats 1000000 in
theorem un_yes (n u : Int) (w : World) : Calls Try.prog 21 #[.int .i64 n, .int .i32 u, .bool true] w fun e w' => e = .returned (.agg (gZ 0 n 1 u)) ∧ w.grownBy w' none := by
  go_enter Try.func21, Try.ntmps21
  go_upto_region 1 with (first
    | (refine wpList_allocC _ rfl 28 rfl (gZ 0 0 0 0) (zeroG _) ?_; intro w1 rs1 hgr))
  have hG1 : Hid (w.grownBy w1 none) := Hid.mk' hgr
  have hB2 : Hid (w.heap.size ≤ w.heap.size) := Hid.mk' (Nat.le_refl _)
  obtain ⟨B, hBe⟩ : ∃ B, Hid (w.heap.size = B) := ⟨_, Hid.mk' rfl⟩
  replace hB2 : Hid (w.heap.size ≤ B) := Hid.mk' (by rw [← hBe.out]; exact hB2.out)
  rw [hBe.out] at rs1
  first | rw [hBe.out] | skip
  clear hgr
  go_wp2_with (first
    | (refine wpList_storeC _ rfl 28 _ _ rfl B (gZ 0 0 0 0) (gZ 0 n 1 u) infoG rfl (gC_one _ _ _ _ _ _ _ _ _) rfl rfl rs1 ?_; intro wz rsz hgz))
  refine bodyPost_ret (v := .agg (gZ 0 n 1 u)) (results_cell_row Try.results21 _ wz B 28 _ (0, 0) _ rfl rsz Try.underlying28 rfl infoG) rfl ⟨rfl, ?_⟩
  exact grownBy_new hG1.out hgz (fun k hk => by have h5 := Option.some.inj hk; have h6 := hB2.out; omega)
set_option maxRecDepth 100000 in
set_option maxHeartbeats 1000000 in
theorem gp_one (w : World) (b : Nat) (ao : Option Addr) (cap : Nat) : Calls Try.prog 19 #[.int .u8 (b : Int), .slice ao 0 cap] w fun e w' => e = .returned (.agg (gZ 1 0 0 0)) ∧ w.grownBy w' none := by
  go_enter Try.func19, Try.ntmps19
  go_upto_region 1 with (first
    | (refine wpList_allocC _ rfl 28 rfl (gZ 0 0 0 0) (zeroG _) ?_; intro w1 rs1 hgr))
  have hG1 : Hid (w.grownBy w1 none) := Hid.mk' hgr
  have hB2 : Hid (w.heap.size ≤ w.heap.size) := Hid.mk' (Nat.le_refl _)
  obtain ⟨B, hBe⟩ : ∃ B, Hid (w.heap.size = B) := ⟨_, Hid.mk' rfl⟩
  replace hB2 : Hid (w.heap.size ≤ B) := Hid.mk' (by rw [← hBe.out]; exact hB2.out)
  rw [hBe.out] at rs1
  first | rw [hBe.out] | skip
  clear hgr
  go_wp2_with (first
    | (refine wpList_storeC _ rfl 28 _ _ rfl B (gZ 0 0 0 0) (gZ 1 0 0 0) infoG rfl (gC_one _ _ _ _ _ _ _ _ _) rfl rfl rs1 ?_; intro wz rsz hgz))
  refine bodyPost_ret (v := .agg (gZ 1 0 0 0)) (results_cell_row Try.results19 _ wz B 28 _ (0, 0) _ rfl rsz Try.underlying28 rfl infoG) rfl ⟨rfl, ?_⟩
  exact grownBy_new hG1.out hgz (fun k hk => by have h5 := Option.some.inj hk; have h6 := hB2.out; omega)
set_option maxRecDepth 100000 in
set_option maxHeartbeats 1000000 in
theorem gp_bad (w : World) (b : Nat) (g o : Nat) (c : Nat) (hy0 : Hid (∀ wx, w.grownBy wx none → wx.cell? ⟨g, o, none⟩ = some (.int .u8 (c : Int)))) (len cap : Nat) (hl2 : len ≤ cap) (hl3 : cap ≤ 9223372036854775807) (hl1 : 0 < len) (h8 : b < 256) (h9 : c < 256) (A D : Nat) (hU : Hid (upT b c = (A, D, false))) : Calls Try.prog 19 #[.int .u8 (b : Int), .slice (some ⟨g, o, none⟩) len cap] w fun e w' => e = .returned (.agg (gZ 10 1 0 0)) ∧ w.grownBy w' none := by
  have hl8 : (0 : Int) < (len : Int) := by omega
  have hl9 : ((len : Int) == 0) = false := by simp; omega
  go_enter Try.func19, Try.ntmps19
  go_upto_region 1 with (first
    | (refine wpList_allocC _ rfl 28 rfl (gZ 0 0 0 0) (zeroG _) ?_; intro w1 rs1 hgr))
  have hG1 : Hid (w.grownBy w1 none) := Hid.mk' hgr
  have hB2 : Hid (w.heap.size ≤ w.heap.size) := Hid.mk' (Nat.le_refl _)
  obtain ⟨B, hBe⟩ : ∃ B, Hid (w.heap.size = B) := ⟨_, Hid.mk' rfl⟩
  replace hB2 : Hid (w.heap.size ≤ B) := Hid.mk' (by rw [← hBe.out]; exact hB2.out)
  rw [hBe.out] at rs1
  first | rw [hBe.out] | skip
  clear hgr
  have y0 := hy0.out _ hG1.out
  go_wp2_with (first
    | (go_at_call 15; refine (pUnpack b c h8 h9 A D false hU _).mono ?_; rintro e w2 ⟨rfl, hg⟩; have rs2 := rs1.kept0 hg; have hG2 : Hid (w.grownBy w2 none) := Hid.mk' (gt hG1.out hg); clear y0; have y0 := hy0.out _ hG2.out; clear rs1 hg )
    | (refine wpList_storeC _ rfl 28 _ _ rfl B (gZ 0 0 0 0) (gZ 10 1 0 0) infoG rfl (gC_one _ _ _ _ _ _ _ _ _) rfl rfl rs2 ?_; intro wz rsz hgz))
  refine bodyPost_ret (v := .agg (gZ 10 1 0 0)) (results_cell_row Try.results19 _ wz B 28 _ (0, 0) _ rfl rsz Try.underlying28 rfl infoG) rfl ⟨rfl, ?_⟩
  exact grownBy_new hG2.out hgz (fun k hk => by have h5 := Option.some.inj hk; have h6 := hB2.out; omega)
set_option maxRecDepth 100000 in
set_option maxHeartbeats 1000000 in
theorem gp_none (w : World) (b : Nat) (g o : Nat) (c : Nat) (hy0 : Hid (∀ wx, w.grownBy wx none → wx.cell? ⟨g, o, none⟩ = some (.int .u8 (c : Int)))) (len cap : Nat) (hl2 : len ≤ cap) (hl3 : cap ≤ 9223372036854775807) (hl1 : 0 < len) (h8 : b < 256) (h9 : c < 256) (A D : Nat) (hD : D ≤ 94) (hU : Hid (upT b c = (A, D, true))) (hR : Hid (C14.scP (A : Int) (D : Int) = none)) : Calls Try.prog 19 #[.int .u8 (b : Int), .slice (some ⟨g, o, none⟩) len cap] w fun e w' => e = .returned (.agg (gZ 10 2 0 0)) ∧ w.grownBy w' none := by
  have hl8 : (0 : Int) < (len : Int) := by omega
  have hl9 : ((len : Int) == 0) = false := by simp; omega
  go_enter Try.func19, Try.ntmps19
  go_upto_region 1 with (first
    | (refine wpList_allocC _ rfl 28 rfl (gZ 0 0 0 0) (zeroG _) ?_; intro w1 rs1 hgr))
  have hG1 : Hid (w.grownBy w1 none) := Hid.mk' hgr
  have hB2 : Hid (w.heap.size ≤ w.heap.size) := Hid.mk' (Nat.le_refl _)
  obtain ⟨B, hBe⟩ : ∃ B, Hid (w.heap.size = B) := ⟨_, Hid.mk' rfl⟩
  replace hB2 : Hid (w.heap.size ≤ B) := Hid.mk' (by rw [← hBe.out]; exact hB2.out)
  rw [hBe.out] at rs1
  first | rw [hBe.out] | skip
  clear hgr
  have y0 := hy0.out _ hG1.out
  go_wp2_with (first
    | (go_at_call 15; refine (pUnpack b c h8 h9 A D true hU _).mono ?_; rintro e w2 ⟨rfl, hg⟩; have rs2 := rs1.kept0 hg; have hG2 : Hid (w.grownBy w2 none) := Hid.mk' (gt hG1.out hg); clear y0; have y0 := hy0.out _ hG2.out; clear rs1 hg )
    | (go_at_call 32; refine (pScN (A : Int) (D : Int) (by unfold C14.I64; omega) hR _).mono ?_; rintro e w3 ⟨rfl, hg⟩; have rs3 := rs2.kept0 hg; have hG3 : Hid (w.grownBy w3 none) := Hid.mk' (gt hG2.out hg); clear y0; have y0 := hy0.out _ hG3.out; clear rs2 hg )
    | (go_at_call 21; refine (un_no 2 0 _).mono ?_; rintro e w4 ⟨rfl, hg⟩; have rs4 := rs3.kept0 hg; have hG4 : Hid (w.grownBy w4 none) := Hid.mk' (gt hG3.out hg); clear y0; have y0 := hy0.out _ hG4.out; clear rs3 hg )
    | (refine wpList_storeC _ rfl 28 _ _ rfl B (gZ 0 0 0 0) (gZ 10 2 0 0) infoG rfl (gC_one _ _ _ _ _ _ _ _ _) rfl rfl rs4 ?_; intro wz rsz hgz))
  refine bodyPost_ret (v := .agg (gZ 10 2 0 0)) (results_cell_row Try.results19 _ wz B 28 _ (0, 0) _ rfl rsz Try.underlying28 rfl infoG) rfl ⟨rfl, ?_⟩
  exact grownBy_new hG4.out hgz (fun k hk => by have h5 := Option.some.inj hk; have h6 := hB2.out; omega)
set_option maxRecDepth 100000 in
set_option maxHeartbeats 1000000 in
theorem gp_some (w : World) (b : Nat) (g o : Nat) (c : Nat) (hy0 : Hid (∀ wx, w.grownBy wx none → wx.cell? ⟨g, o, none⟩ = some (.int .u8 (c : Int)))) (len cap : Nat) (hl2 : len ≤ cap) (hl3 : cap ≤ 9223372036854775807) (hl1 : 0 < len) (h8 : b < 256) (h9 : c < 256) (A D : Nat) (hD : D ≤ 94) (hU : Hid (upT b c = (A, D, true))) (n : Nat) (hR : Hid (C14.scP (A : Int) (D : Int) = some n)) : Calls Try.prog 19 #[.int .u8 (b : Int), .slice (some ⟨g, o, none⟩) len cap] w fun e w' => e = .returned (.agg (gZ 0 2 1 (n : Int))) ∧ w.grownBy w' none := by
  have hl8 : (0 : Int) < (len : Int) := by omega
  have hl9 : ((len : Int) == 0) = false := by simp; omega
  go_enter Try.func19, Try.ntmps19
  go_upto_region 1 with (first
    | (refine wpList_allocC _ rfl 28 rfl (gZ 0 0 0 0) (zeroG _) ?_; intro w1 rs1 hgr))
  have hG1 : Hid (w.grownBy w1 none) := Hid.mk' hgr
  have hB2 : Hid (w.heap.size ≤ w.heap.size) := Hid.mk' (Nat.le_refl _)
  obtain ⟨B, hBe⟩ : ∃ B, Hid (w.heap.size = B) := ⟨_, Hid.mk' rfl⟩
  replace hB2 : Hid (w.heap.size ≤ B) := Hid.mk' (by rw [← hBe.out]; exact hB2.out)
  rw [hBe.out] at rs1
  first | rw [hBe.out] | skip
  clear hgr
  have y0 := hy0.out _ hG1.out
  go_wp2_with (first
    | (go_at_call 15; refine (pUnpack b c h8 h9 A D true hU _).mono ?_; rintro e w2 ⟨rfl, hg⟩; have rs2 := rs1.kept0 hg; have hG2 : Hid (w.grownBy w2 none) := Hid.mk' (gt hG1.out hg); clear y0; have y0 := hy0.out _ hG2.out; clear rs1 hg )
    | (go_at_call 32; refine (pScS (A : Int) (D : Int) (by unfold C14.I64; omega) n hR _).mono ?_; rintro e w3 ⟨rfl, hg⟩; have rs3 := rs2.kept0 hg; have hG3 : Hid (w.grownBy w3 none) := Hid.mk' (gt hG2.out hg); clear y0; have y0 := hy0.out _ hG3.out; clear rs2 hg )
    | (go_at_call 21; refine (un_yes 2 (n : Int) _).mono ?_; rintro e w4 ⟨rfl, hg⟩; have rs4 := rs3.kept0 hg; have hG4 : Hid (w.grownBy w4 none) := Hid.mk' (gt hG3.out hg); clear y0; have y0 := hy0.out _ hG4.out; clear rs3 hg )
    | (refine wpList_storeC _ rfl 28 _ _ rfl B (gZ 0 0 0 0) (gZ 0 2 1 (n : Int)) infoG rfl (gC_one _ _ _ _ _ _ _ _ _) rfl rfl rs4 ?_; intro wz rsz hgz))
  refine bodyPost_ret (v := .agg (gZ 0 2 1 (n : Int))) (results_cell_row Try.results19 _ wz B 28 _ (0, 0) _ rfl rsz Try.underlying28 rfl infoG) rfl ⟨rfl, ?_⟩
  exact grownBy_new hG4.out hgz (fun k hk => by have h5 := Option.some.inj hk; have h6 := hB2.out; omega)
set_option maxRecDepth 100000 in
set_option maxHeartbeats 1000000 in
theorem pg_more (w : World) (ao : Option Addr) (cap : Nat) : Calls Try.prog 9 #[.slice ao 0 cap] w fun e w' => e = .returned (.agg (gZ 1 0 0 0)) ∧ w.grownBy w' none := by
  go_enter Try.func9, Try.ntmps9
  go_upto_region 1 with (first
    | (refine wpList_allocC _ rfl 28 rfl (gZ 0 0 0 0) (zeroG _) ?_; intro w1 rs1 hgr))
  have hG1 : Hid (w.grownBy w1 none) := Hid.mk' hgr
  have hB2 : Hid (w.heap.size ≤ w.heap.size) := Hid.mk' (Nat.le_refl _)
  obtain ⟨B, hBe⟩ : ∃ B, Hid (w.heap.size = B) := ⟨_, Hid.mk' rfl⟩
  replace hB2 : Hid (w.heap.size ≤ B) := Hid.mk' (by rw [← hBe.out]; exact hB2.out)
  rw [hBe.out] at rs1
  first | rw [hBe.out] | skip
  clear hgr
  go_wp2_with (first
    | (refine wpList_storeC _ rfl 28 _ _ rfl B (gZ 0 0 0 0) (gZ 1 0 0 0) infoG rfl (gC_one _ _ _ _ _ _ _ _ _) rfl rfl rs1 ?_; intro wz rsz hgz))
  refine bodyPost_ret (v := .agg (gZ 1 0 0 0)) (results_cell_row Try.results9 _ wz B 28 _ (0, 0) _ rfl rsz Try.underlying28 rfl infoG) rfl ⟨rfl, ?_⟩
  exact grownBy_new hG1.out hgz (fun k hk => by have h5 := Option.some.inj hk; have h6 := hB2.out; omega)
set_option maxRecDepth 100000 in
set_option maxHeartbeats 1000000 in
theorem pg_hs (w : World) (g o : Nat) (b : Nat) (hy0 : Hid (∀ wx, w.grownBy wx none → wx.cell? ⟨g, o, none⟩ = some (.int .u8 (b : Int)))) (len cap : Nat) (hl2 : len ≤ cap) (hl3 : cap ≤ 9223372036854775807) (hl1 : 0 < len) (hl4 : ((len : Int) == 0) = false) (hb8 : b < 256) (hld : Hid (lead b = false)) (n : Nat) (hn : Hid (C14.haR b = some n)) : Calls Try.prog 9 #[.slice (some ⟨g, o, none⟩) len cap] w fun e w' => e = .returned (.agg (gZ 0 1 1 (n : Int))) ∧ w.grownBy w' none := by
  have hl8 : (0 : Int) < (len : Int) := by omega
  go_enter Try.func9, Try.ntmps9
  go_upto_region 1 with (first
    | (refine wpList_allocC _ rfl 28 rfl (gZ 0 0 0 0) (zeroG _) ?_; intro w1 rs1 hgr))
  have hG1 : Hid (w.grownBy w1 none) := Hid.mk' hgr
  have hB2 : Hid (w.heap.size ≤ w.heap.size) := Hid.mk' (Nat.le_refl _)
  obtain ⟨B, hBe⟩ : ∃ B, Hid (w.heap.size = B) := ⟨_, Hid.mk' rfl⟩
  replace hB2 : Hid (w.heap.size ≤ B) := Hid.mk' (by rw [← hBe.out]; exact hB2.out)
  rw [hBe.out] at rs1
  first | rw [hBe.out] | skip
  clear hgr
  have y0 := hy0.out _ hG1.out
  go_wp2_with (first
    | (go_at_call 18; refine (lead_no b hb8 hld _).mono ?_; rintro e w2 ⟨rfl, hg⟩; have rs2 := rs1.kept0 hg; have hG2 : Hid (w.grownBy w2 none) := Hid.mk' (gt hG1.out hg); clear y0; have y0 := hy0.out _ hG2.out; clear rs1 hg )
    | (go_at_call 20; refine (pHalfS b hb8 n hn _).mono ?_; rintro e w3 ⟨rfl, hg⟩; have rs3 := rs2.kept0 hg; have hG3 : Hid (w.grownBy w3 none) := Hid.mk' (gt hG2.out hg); clear y0; have y0 := hy0.out _ hG3.out; clear rs2 hg )
    | (go_at_call 21; refine (un_yes 1 (n : Int) _).mono ?_; rintro e w4 ⟨rfl, hg⟩; have rs4 := rs3.kept0 hg; have hG4 : Hid (w.grownBy w4 none) := Hid.mk' (gt hG3.out hg); clear y0; have y0 := hy0.out _ hG4.out; clear rs3 hg )
    | (refine wpList_storeC _ rfl 28 _ _ rfl B (gZ 0 0 0 0) (gZ 0 1 1 (n : Int)) infoG rfl (gC_one _ _ _ _ _ _ _ _ _) rfl rfl rs4 ?_; intro wz rsz hgz))
  refine bodyPost_ret (v := .agg (gZ 0 1 1 (n : Int))) (results_cell_row Try.results9 _ wz B 28 _ (0, 0) _ rfl rsz Try.underlying28 rfl infoG) rfl ⟨rfl, ?_⟩
  exact grownBy_new hG4.out hgz (fun k hk => by have h5 := Option.some.inj hk; have h6 := hB2.out; omega)
set_option maxRecDepth 100000 in
set_option maxHeartbeats 1000000 in
theorem pg_hn (w : World) (g o : Nat) (b : Nat) (hy0 : Hid (∀ wx, w.grownBy wx none → wx.cell? ⟨g, o, none⟩ = some (.int .u8 (b : Int)))) (len cap : Nat) (hl2 : len ≤ cap) (hl3 : cap ≤ 9223372036854775807) (hl1 : 0 < len) (hl4 : ((len : Int) == 0) = false) (hb8 : b < 256) (hld : Hid (lead b = false)) (hn : Hid (C14.haR b = none)) : Calls Try.prog 9 #[.slice (some ⟨g, o, none⟩) len cap] w fun e w' => e = .returned (.agg (gZ 10 1 0 0)) ∧ w.grownBy w' none := by
  have hl8 : (0 : Int) < (len : Int) := by omega
  go_enter Try.func9, Try.ntmps9
  go_upto_region 1 with (first
    | (refine wpList_allocC _ rfl 28 rfl (gZ 0 0 0 0) (zeroG _) ?_; intro w1 rs1 hgr))
  have hG1 : Hid (w.grownBy w1 none) := Hid.mk' hgr
  have hB2 : Hid (w.heap.size ≤ w.heap.size) := Hid.mk' (Nat.le_refl _)
  obtain ⟨B, hBe⟩ : ∃ B, Hid (w.heap.size = B) := ⟨_, Hid.mk' rfl⟩
  replace hB2 : Hid (w.heap.size ≤ B) := Hid.mk' (by rw [← hBe.out]; exact hB2.out)
  rw [hBe.out] at rs1
  first | rw [hBe.out] | skip
  clear hgr
  have y0 := hy0.out _ hG1.out
  go_wp2_with (first
    | (go_at_call 18; refine (lead_no b hb8 hld _).mono ?_; rintro e w2 ⟨rfl, hg⟩; have rs2 := rs1.kept0 hg; have hG2 : Hid (w.grownBy w2 none) := Hid.mk' (gt hG1.out hg); clear y0; have y0 := hy0.out _ hG2.out; clear rs1 hg )
    | (go_at_call 20; refine (pHalfN b hb8 hn _).mono ?_; rintro e w3 ⟨rfl, hg⟩; have rs3 := rs2.kept0 hg; have hG3 : Hid (w.grownBy w3 none) := Hid.mk' (gt hG2.out hg); clear y0; have y0 := hy0.out _ hG3.out; clear rs2 hg )
    | (go_at_call 21; refine (un_no 1 0 _).mono ?_; rintro e w4 ⟨rfl, hg⟩; have rs4 := rs3.kept0 hg; have hG4 : Hid (w.grownBy w4 none) := Hid.mk' (gt hG3.out hg); clear y0; have y0 := hy0.out _ hG4.out; clear rs3 hg )
    | (refine wpList_storeC _ rfl 28 _ _ rfl B (gZ 0 0 0 0) (gZ 10 1 0 0) infoG rfl (gC_one _ _ _ _ _ _ _ _ _) rfl rfl rs4 ?_; intro wz rsz hgz))
  refine bodyPost_ret (v := .agg (gZ 10 1 0 0)) (results_cell_row Try.results9 _ wz B 28 _ (0, 0) _ rfl rsz Try.underlying28 rfl infoG) rfl ⟨rfl, ?_⟩
  exact grownBy_new hG4.out hgz (fun k hk => by have h5 := Option.some.inj hk; have h6 := hB2.out; omega)
set_option maxRecDepth 100000 in
set_option maxHeartbeats 1000000 in
theorem pg_pairz (w : World) (g o : Nat) (b : Nat) (hy0 : Hid (∀ wx, w.grownBy wx none → wx.cell? ⟨g, o, none⟩ = some (.int .u8 (b : Int)))) (k : Nat) (hld : Hid (lead b = true)) (hk : Hid (upK b = k)) (ge gn gk ga : Int) (hp : Hid (∀ w1, w.grownBy w1 none → Calls Try.prog 19 #[.int .u8 (b : Int), .slice (some ⟨g, o, none⟩) 0 0] w1 fun e w2 => e = .returned (.agg (gZ ge gn gk ga)) ∧ w1.grownBy w2 none)) : Calls Try.prog 9 #[.slice (some ⟨g, o, none⟩) 1 1] w fun e w' => e = .returned (.agg (gZ ge gn gk ga)) ∧ w.grownBy w' none := by
  go_enter Try.func9, Try.ntmps9
  go_upto_region 1 with (first
    | (refine wpList_allocC _ rfl 28 rfl (gZ 0 0 0 0) (zeroG _) ?_; intro w1 rs1 hgr))
  have hG1 : Hid (w.grownBy w1 none) := Hid.mk' hgr
  have hB2 : Hid (w.heap.size ≤ w.heap.size) := Hid.mk' (Nat.le_refl _)
  obtain ⟨B, hBe⟩ : ∃ B, Hid (w.heap.size = B) := ⟨_, Hid.mk' rfl⟩
  replace hB2 : Hid (w.heap.size ≤ B) := Hid.mk' (by rw [← hBe.out]; exact hB2.out)
  rw [hBe.out] at rs1
  first | rw [hBe.out] | skip
  clear hgr
  have y0 := hy0.out _ hG1.out
  go_upto_region 5 with (first
    | (go_at_call 18; refine (lead_yes b k hld hk _).mono ?_; rintro e w2 ⟨rfl, hg⟩; have rs2 := rs1.kept0 hg; have hG2 : Hid (w.grownBy w2 none) := Hid.mk' (gt hG1.out hg); clear y0; have y0 := hy0.out _ hG2.out; clear rs1 hg ))
  have hS : Hid (∀ wx, w2.grownBy wx none → wx.cell? ⟨g, o, none⟩ = some (.int .u8 (b : Int))) := Hid.mk' (fun wx hgx => hy0.out _ (gt hG2.out hgx))
  refine wp_region_held_drew (S := fun wx => wx.cell? ⟨g, o, none⟩ = some (.int .u8 (b : Int))) (by kernel_rfl) (hS.out _ (grownBy_drew (grownBy_refl _ _))) (fun hHeld => ?_)
  refine wpAnyH_take (i := 0) (v := ?_) rfl (by kernel_rfl) (by kernel_rfl) (by kernel_rfl) (fun _ _ _ h => h) (Or.inl ⟨by rfl, ?_⟩) (by assumption) ?_; rotate_left
  · (intro w hSw; (try dsimp only at hSw); go_simp; try with_reducible rfl)
  try simp only [List.getElem_toArray, List.getElem_cons_zero, Act.put, List.setIfInBounds_toArray, List.set_cons_zero, List.set_cons_succ]
  refine wpAnyH_take (i := 1) (v := ?_) rfl (by kernel_rfl) (by kernel_rfl) (by kernel_rfl) (fun _ _ _ h => h) (Or.inl ⟨by rfl, ?_⟩) (by assumption) ?_; rotate_left
  · (intro w hSw; (try dsimp only at hSw); go_simp; try with_reducible rfl)
  try simp only [List.getElem_toArray, List.getElem_cons_zero, List.getElem_cons_succ, Act.put, List.setIfInBounds_toArray, List.set_cons_zero, List.set_cons_succ]
  refine wpAnyH_take (i := 2) (v := ?_) rfl (by kernel_rfl) (by kernel_rfl) (by kernel_rfl) (fun _ _ _ h => h) (Or.inl ⟨by rfl, ?_⟩) (by assumption) ?_; rotate_left
  · (intro w hSw; (try dsimp only at hSw); go_simp; try with_reducible rfl)
  try simp only [List.getElem_toArray, List.getElem_cons_zero, List.getElem_cons_succ, Act.put, List.setIfInBounds_toArray, List.set_cons_zero, List.set_cons_succ]
  refine wpAnyH_take (i := 3) (v := ?_) rfl (by kernel_rfl) (by kernel_rfl) (by kernel_rfl) (fun _ _ _ h => h) (Or.inl ⟨by rfl, ?_⟩) (by assumption) ?_; rotate_left
  · (intro w hSw; (try dsimp only at hSw); go_simp; try with_reducible rfl)
  try simp only [List.getElem_toArray, List.getElem_cons_zero, List.getElem_cons_succ, Act.put, List.setIfInBounds_toArray, List.set_cons_zero, List.set_cons_succ]
  refine wpAnyH_take (i := 4) (v := ?_) rfl (by kernel_rfl) (by kernel_rfl) (by kernel_rfl) (fun _ _ _ h => h) (Or.inl ⟨by rfl, ?_⟩) (by assumption) ?_; rotate_left
  · (intro w hSw; (try dsimp only at hSw); go_simp; try with_reducible rfl)
  try simp only [List.getElem_toArray, List.getElem_cons_zero, List.getElem_cons_succ, Act.put, List.setIfInBounds_toArray, List.set_cons_zero, List.set_cons_succ]
  refine wpAnyH_ready (rs := [5]) (by kernel_rfl) (by simp) ?_
  refine AllReadyH.cons rfl (fun K hK => ?_) AllReadyH.nil
  go_simp
  go_at_call 19; refine (hp.out _ (grownBy_drew hG2.out)).mono ?_; rintro e w3 ⟨rfl, hg⟩; have hg3 : w2.grownBy w3 none := gt (grownBy_drew (grownBy_refl _ _)) hg; have rs3 := rs2.kept0 hg3; have hG3 : Hid (w.grownBy w3 none) := Hid.mk' (gt hG2.out hg3)
  refine hK.out _ _ (hS.out _ hg3) (fun hHeld => ?_)
  clear hK K
  try simp only [List.getElem_toArray, List.getElem_cons_zero, List.getElem_cons_succ, Act.put, List.setIfInBounds_toArray, List.set_cons_zero, List.set_cons_succ]
  refine wpAnyH_ready (rs := [6]) (by kernel_rfl) (by simp) ?_
  refine AllReadyH.cons rfl (fun K hK => ?_) AllReadyH.nil
  refine step_storeC (by rfl) 28 _ _ rfl B (gZ 0 0 0 0) (gZ ge gn gk ga) infoG rfl (gC_one _ _ _ _ _ _ _ _ _) rfl rfl rs3 ?_; intro wz rsz hgz; have hb1 := World.block_lt_of_cell? w ⟨g, o, none⟩ (hy0.out _ (grownBy_refl _ _)); have hyz := hgz.cell (hy0.out _ hG3.out) (by intro e; have h5 := Option.some.inj e; have h6 := hB2.out; have h7 : g < w.heap.size := hb1; have h8 : g = B := h5; omega)
  refine hK.out _ _ hyz (fun hHeld => ?_)
  clear hK K
  try simp only [List.getElem_toArray, List.getElem_cons_zero, List.getElem_cons_succ, Act.put, List.setIfInBounds_toArray, List.set_cons_zero, List.set_cons_succ]
  refine wpAnyH_done (by kernel_rfl) ?_ _
  (try go_wp2)
  refine bodyPost_ret (v := .agg (gZ ge gn gk ga)) (results_cell_row Try.results9 _ wz B 28 _ (0, 0) _ rfl rsz Try.underlying28 rfl infoG) rfl ⟨rfl, ?_⟩
  exact grownBy_new hG3.out hgz (fun k hk => by have h5 := Option.some.inj hk; have h6 := hB2.out; omega)
set_option maxRecDepth 100000 in
set_option maxHeartbeats 1000000 in
theorem pg_pairn (w : World) (g o : Nat) (b : Nat) (hy0 : Hid (∀ wx, w.grownBy wx none → wx.cell? ⟨g, o, none⟩ = some (.int .u8 (b : Int)))) (len cap : Nat) (hl2 : len ≤ cap) (hl3 : cap ≤ 9223372036854775807) (hl1 : 0 < len) (hl4 : ((len : Int) == 0) = false) (hl5 : ¬ cap = 1) (k : Nat) (hld : Hid (lead b = true)) (hk : Hid (upK b = k)) (ge gn gk ga : Int) (hp : Hid (∀ w1, w.grownBy w1 none → Calls Try.prog 19 #[.int .u8 (b : Int), .slice (some ⟨g, o + 1, none⟩) (len - 1) (cap - 1)] w1 fun e w2 => e = .returned (.agg (gZ ge gn gk ga)) ∧ w1.grownBy w2 none)) : Calls Try.prog 9 #[.slice (some ⟨g, o, none⟩) len cap] w fun e w' => e = .returned (.agg (gZ ge gn gk ga)) ∧ w.grownBy w' none := by
  have hl8 : (0 : Int) < (len : Int) := by omega
  have hl6 : (1 : Int) ≤ (len : Int) := by omega
  go_enter Try.func9, Try.ntmps9
  go_upto_region 1 with (first
    | (refine wpList_allocC _ rfl 28 rfl (gZ 0 0 0 0) (zeroG _) ?_; intro w1 rs1 hgr))
  have hG1 : Hid (w.grownBy w1 none) := Hid.mk' hgr
  have hB2 : Hid (w.heap.size ≤ w.heap.size) := Hid.mk' (Nat.le_refl _)
  obtain ⟨B, hBe⟩ : ∃ B, Hid (w.heap.size = B) := ⟨_, Hid.mk' rfl⟩
  replace hB2 : Hid (w.heap.size ≤ B) := Hid.mk' (by rw [← hBe.out]; exact hB2.out)
  rw [hBe.out] at rs1
  first | rw [hBe.out] | skip
  clear hgr
  have y0 := hy0.out _ hG1.out
  go_upto_region 5 with (first
    | (go_at_call 18; refine (lead_yes b k hld hk _).mono ?_; rintro e w2 ⟨rfl, hg⟩; have rs2 := rs1.kept0 hg; have hG2 : Hid (w.grownBy w2 none) := Hid.mk' (gt hG1.out hg); clear y0; have y0 := hy0.out _ hG2.out; clear rs1 hg ))
  have hS : Hid (∀ wx, w2.grownBy wx none → wx.cell? ⟨g, o, none⟩ = some (.int .u8 (b : Int))) := Hid.mk' (fun wx hgx => hy0.out _ (gt hG2.out hgx))
  refine wp_region_held_drew (S := fun wx => wx.cell? ⟨g, o, none⟩ = some (.int .u8 (b : Int))) (by kernel_rfl) (hS.out _ (grownBy_drew (grownBy_refl _ _))) (fun hHeld => ?_)
  refine wpAnyH_take (i := 0) (v := ?_) rfl (by kernel_rfl) (by kernel_rfl) (by kernel_rfl) (fun _ _ _ h => h) (Or.inl ⟨by rfl, ?_⟩) (by assumption) ?_; rotate_left
  · (intro w hSw; (try dsimp only at hSw); go_simp; try with_reducible rfl)
  try simp only [List.getElem_toArray, List.getElem_cons_zero, Act.put, List.setIfInBounds_toArray, List.set_cons_zero, List.set_cons_succ]
  refine wpAnyH_take (i := 1) (v := ?_) rfl (by kernel_rfl) (by kernel_rfl) (by kernel_rfl) (fun _ _ _ h => h) (Or.inl ⟨by rfl, ?_⟩) (by assumption) ?_; rotate_left
  · (intro w hSw; (try dsimp only at hSw); go_simp; try with_reducible rfl)
  try simp only [List.getElem_toArray, List.getElem_cons_zero, List.getElem_cons_succ, Act.put, List.setIfInBounds_toArray, List.set_cons_zero, List.set_cons_succ]
  refine wpAnyH_take (i := 2) (v := ?_) rfl (by kernel_rfl) (by kernel_rfl) (by kernel_rfl) (fun _ _ _ h => h) (Or.inl ⟨by rfl, ?_⟩) (by assumption) ?_; rotate_left
  · (intro w hSw; (try dsimp only at hSw); go_simp; try with_reducible rfl)
  try simp only [List.getElem_toArray, List.getElem_cons_zero, List.getElem_cons_succ, Act.put, List.setIfInBounds_toArray, List.set_cons_zero, List.set_cons_succ]
  refine wpAnyH_take (i := 3) (v := ?_) rfl (by kernel_rfl) (by kernel_rfl) (by kernel_rfl) (fun _ _ _ h => h) (Or.inl ⟨by rfl, ?_⟩) (by assumption) ?_; rotate_left
  · (intro w hSw; (try dsimp only at hSw); go_simp; try with_reducible rfl)
  try simp only [List.getElem_toArray, List.getElem_cons_zero, List.getElem_cons_succ, Act.put, List.setIfInBounds_toArray, List.set_cons_zero, List.set_cons_succ]
  refine wpAnyH_take (i := 4) (v := ?_) rfl (by kernel_rfl) (by kernel_rfl) (by kernel_rfl) (fun _ _ _ h => h) (Or.inl ⟨by rfl, ?_⟩) (by assumption) ?_; rotate_left
  · (intro w hSw; (try dsimp only at hSw); go_simp; try with_reducible rfl)
  try simp only [List.getElem_toArray, List.getElem_cons_zero, List.getElem_cons_succ, Act.put, List.setIfInBounds_toArray, List.set_cons_zero, List.set_cons_succ]
  refine wpAnyH_ready (rs := [5]) (by kernel_rfl) (by simp) ?_
  refine AllReadyH.cons rfl (fun K hK => ?_) AllReadyH.nil
  go_simp
  go_at_call 19; refine (hp.out _ (grownBy_drew hG2.out)).mono ?_; rintro e w3 ⟨rfl, hg⟩; have hg3 : w2.grownBy w3 none := gt (grownBy_drew (grownBy_refl _ _)) hg; have rs3 := rs2.kept0 hg3; have hG3 : Hid (w.grownBy w3 none) := Hid.mk' (gt hG2.out hg3)
  refine hK.out _ _ (hS.out _ hg3) (fun hHeld => ?_)
  clear hK K
  try simp only [List.getElem_toArray, List.getElem_cons_zero, List.getElem_cons_succ, Act.put, List.setIfInBounds_toArray, List.set_cons_zero, List.set_cons_succ]
  refine wpAnyH_ready (rs := [6]) (by kernel_rfl) (by simp) ?_
  refine AllReadyH.cons rfl (fun K hK => ?_) AllReadyH.nil
  refine step_storeC (by rfl) 28 _ _ rfl B (gZ 0 0 0 0) (gZ ge gn gk ga) infoG rfl (gC_one _ _ _ _ _ _ _ _ _) rfl rfl rs3 ?_; intro wz rsz hgz; have hb1 := World.block_lt_of_cell? w ⟨g, o, none⟩ (hy0.out _ (grownBy_refl _ _)); have hyz := hgz.cell (hy0.out _ hG3.out) (by intro e; have h5 := Option.some.inj e; have h6 := hB2.out; have h7 : g < w.heap.size := hb1; have h8 : g = B := h5; omega)
  refine hK.out _ _ hyz (fun hHeld => ?_)
  clear hK K
  try simp only [List.getElem_toArray, List.getElem_cons_zero, List.getElem_cons_succ, Act.put, List.setIfInBounds_toArray, List.set_cons_zero, List.set_cons_succ]
  refine wpAnyH_done (by kernel_rfl) ?_ _
  (try go_wp2)
  refine bodyPost_ret (v := .agg (gZ ge gn gk ga)) (results_cell_row Try.results9 _ wz B 28 _ (0, 0) _ rfl rsz Try.underlying28 rfl infoG) rfl ⟨rfl, ?_⟩
  exact grownBy_new hG3.out hgz (fun k hk => by have h5 := Option.some.inj hk; have h6 := hB2.out; omega)
set_option maxRecDepth 100000 in
set_option maxHeartbeats 1000000 in
theorem ps_half (u : Int) (b : Nat) (hb8 : b < 256) (hb : Hid (C14.hbR u = some b)) (w : World) : Calls Try.prog 11 #[.int .i32 u] w fun e w' => e = .returned (.agg (pZ 0 (str [b8 b]))) ∧ w.grownBy w' none := by
  go_enter Try.func11, Try.ntmps11
  go_upto_region 1 with (first
    | (refine wpList_allocC _ rfl 32 rfl (pZ 0 ⟨#[]⟩) (zeroP _) ?_; intro w1 rs1 hgr))
  have hG1 : Hid (w.grownBy w1 none) := Hid.mk' hgr
  have hB2 : Hid (w.heap.size ≤ w.heap.size) := Hid.mk' (Nat.le_refl _)
  obtain ⟨B, hBe⟩ : ∃ B, Hid (w.heap.size = B) := ⟨_, Hid.mk' rfl⟩
  replace hB2 : Hid (w.heap.size ≤ B) := Hid.mk' (by rw [← hBe.out]; exact hB2.out)
  rw [hBe.out] at rs1
  first | rw [hBe.out] | skip
  clear hgr
  go_wp2_with (first
    | (go_at_call 24; refine (pHbS u b hb _).mono ?_; rintro e w2 ⟨rfl, hg⟩; have rs2 := rs1.kept0 hg; have hG2 : Hid (w.grownBy w2 none) := Hid.mk' (gt hG1.out hg); clear rs1 hg ; have hcv := conv_one hb8 w2)
    | (refine wpList_storeC _ rfl 32 _ _ rfl B (pZ 0 ⟨#[]⟩) (pZ 0 (str [b8 b])) infoP rfl (pC_one _ _ _ _ _ _) rfl rfl (rs2.kept0 (World.grownBy_alloc _ _ _)) ?_; intro wz rsz hgz))
  refine bodyPost_ret (v := .agg (pZ 0 (str [b8 b]))) (results_cell_row Try.results11 _ wz B 32 _ (0, 0) _ rfl rsz Try.underlying32 rfl infoP) rfl ⟨rfl, ?_⟩
  exact grownBy_new (gt hG2.out (World.grownBy_alloc _ _ _)) hgz (fun k hk => by have h5 := Option.some.inj hk; have h6 := hB2.out; omega)
set_option maxRecDepth 100000 in
set_option maxHeartbeats 1000000 in
theorem ps_none (u : Int) (hb : Hid (C14.hbR u = none)) (A D : Nat) (ok : Bool) (hP : Hid (C14.plT u = (A, D, ok))) (x y : Nat) (hK : Hid (pkT (A : Int) (D : Int) = (x, y, false))) (w : World) : Calls Try.prog 11 #[.int .i32 u] w fun e w' => e = .returned (.agg (pZ 11 ⟨#[]⟩)) ∧ w.grownBy w' none := by
  go_enter Try.func11, Try.ntmps11
  go_upto_region 1 with (first
    | (refine wpList_allocC _ rfl 32 rfl (pZ 0 ⟨#[]⟩) (zeroP _) ?_; intro w1 rs1 hgr))
  have hG1 : Hid (w.grownBy w1 none) := Hid.mk' hgr
  have hB2 : Hid (w.heap.size ≤ w.heap.size) := Hid.mk' (Nat.le_refl _)
  obtain ⟨B, hBe⟩ : ∃ B, Hid (w.heap.size = B) := ⟨_, Hid.mk' rfl⟩
  replace hB2 : Hid (w.heap.size ≤ B) := Hid.mk' (by rw [← hBe.out]; exact hB2.out)
  rw [hBe.out] at rs1
  first | rw [hBe.out] | skip
  clear hgr
  go_wp2_with (first
    | (go_at_call 24; refine (pHbN u hb _).mono ?_; rintro e w2 ⟨rfl, hg⟩; have rs2 := rs1.kept0 hg; have hG2 : Hid (w.grownBy w2 none) := Hid.mk' (gt hG1.out hg); clear rs1 hg )
    | (go_at_call 25; refine (C14.pPlace u _ A D ok hP).mono ?_; rintro e w3 ⟨rfl, hg⟩; have rs3 := rs2.kept0 hg; have hG3 : Hid (w.grownBy w3 none) := Hid.mk' (gt hG2.out hg); clear rs2 hg )
    | (go_at_call 13; refine (pPack (A : Int) (D : Int) x y false hK _).mono ?_; rintro e w4 ⟨rfl, hg⟩; have rs4 := rs3.kept0 hg; have hG4 : Hid (w.grownBy w4 none) := Hid.mk' (gt hG3.out hg); clear rs3 hg )
    | (refine wpList_storeC _ rfl 32 _ _ rfl B (pZ 0 ⟨#[]⟩) (pZ 11 ⟨#[]⟩) infoP rfl (pC_one _ _ _ _ _ _) rfl rfl rs4 ?_; intro wz rsz hgz))
  refine bodyPost_ret (v := .agg (pZ 11 ⟨#[]⟩)) (results_cell_row Try.results11 _ wz B 32 _ (0, 0) _ rfl rsz Try.underlying32 rfl infoP) rfl ⟨rfl, ?_⟩
  exact grownBy_new hG4.out hgz (fun k hk => by have h5 := Option.some.inj hk; have h6 := hB2.out; omega)
set_option maxRecDepth 100000 in
set_option maxHeartbeats 1000000 in
theorem ps_place (u : Int) (hb : Hid (C14.hbR u = none)) (A D : Nat) (hP : Hid (C14.plT u = (A, D, true))) (x y : Nat) (hx : x < 256) (hy : y < 256) (hK : Hid (pkT (A : Int) (D : Int) = (x, y, true))) (w : World) : Calls Try.prog 11 #[.int .i32 u] w fun e w' => e = .returned (.agg (pZ 0 (str [b8 x, b8 y]))) ∧ w.grownBy w' none := by
  go_enter Try.func11, Try.ntmps11
  go_upto_region 1 with (first
    | (refine wpList_allocC _ rfl 32 rfl (pZ 0 ⟨#[]⟩) (zeroP _) ?_; intro w1 rs1 hgr))
  have hG1 : Hid (w.grownBy w1 none) := Hid.mk' hgr
  have hB2 : Hid (w.heap.size ≤ w.heap.size) := Hid.mk' (Nat.le_refl _)
  obtain ⟨B, hBe⟩ : ∃ B, Hid (w.heap.size = B) := ⟨_, Hid.mk' rfl⟩
  replace hB2 : Hid (w.heap.size ≤ B) := Hid.mk' (by rw [← hBe.out]; exact hB2.out)
  rw [hBe.out] at rs1
  first | rw [hBe.out] | skip
  clear hgr
  go_upto_region 9 with (first
    | (go_at_call 24; refine (pHbN u hb _).mono ?_; rintro e w2 ⟨rfl, hg⟩; have rs2 := rs1.kept0 hg; have hG2 : Hid (w.grownBy w2 none) := Hid.mk' (gt hG1.out hg); clear rs1 hg )
    | (go_at_call 25; refine (C14.pPlace u _ A D true hP).mono ?_; rintro e w3 ⟨rfl, hg⟩; have rs3 := rs2.kept0 hg; have hG3 : Hid (w.grownBy w3 none) := Hid.mk' (gt hG2.out hg); clear rs2 hg )
    | (go_at_call 13; refine (pPack (A : Int) (D : Int) x y true hK _).mono ?_; rintro e w4 ⟨rfl, hg⟩; have rs4 := rs3.kept0 hg; have hG4 : Hid (w.grownBy w4 none) := Hid.mk' (gt hG3.out hg); clear rs3 hg )
    | (refine wpList_allocC _ rfl 55 rfl (aC 0 0) (zeroA2 _) ?_; intro w5 vsp5 hg; have hsp : Hid (w.heap.size ≤ w4.heap.size) := Hid.mk' hG4.out.size; have hnep : Hid (B < w4.heap.size) := Hid.mk' rs4.lt; obtain ⟨Vp, hVp⟩ : ∃ V, Hid (w4.heap.size = V) := ⟨_, Hid.mk' rfl⟩; have rs5 := rs4.kept0 hg; have hG5 : Hid (w.grownBy w5 none) := Hid.mk' (gt hG4.out hg); clear rs4 hg ; rw [hVp.out] at vsp5 hsp hnep; rw [hVp.out])
    | (refine wpList_storeC _ rfl 55 _ _ rfl Vp (aC 0 0) (aC (x : Int) (y : Int)) infoA2 rfl (aC_one _ _) rfl rfl vsp5 ?_; intro w6 vsp6 hg; have rs6 := rs5.kept hg (by have := hnep.out; intro e; have h5 := Option.some.inj e; omega); have hG6 : Hid (w.grownBy w6 none) := Hid.mk' (grownBy_new hG5.out hg (fun q hq => by have h5 := Option.some.inj hq; have h6 := hsp.out; omega)); clear rs5 hg vsp5 ; have hcv := conv_ca hx hy vsp6))
  go_wp2_with (first
    | (refine wpList_storeC _ rfl 32 _ _ rfl B (pZ 0 ⟨#[]⟩) (pZ 0 (str [b8 x, b8 y])) infoP rfl (pC_one _ _ _ _ _ _) rfl rfl rs6 ?_; intro wz rsz hgz))
  refine bodyPost_ret (v := .agg (pZ 0 (str [b8 x, b8 y]))) (results_cell_row Try.results11 _ wz B 32 _ (0, 0) _ rfl rsz Try.underlying32 rfl infoP) rfl ⟨rfl, ?_⟩
  exact grownBy_new hG6.out hgz (fun k hk => by have h5 := Option.some.inj hk; have h6 := hB2.out; omega)
theorem plT_zero {u : Int} {A D : Nat} (h : C14.plT u = (A, D, false)) : A = 0 ∧ D = 0 := by
  unfold C14.plT at h
  cases e : C14.plP u with
  | none => rw [e] at h; simp only [Prod.mk.injEq] at h; omega
  | some p => rw [e] at h; simp at h
theorem set_any (u : Int) (w : World) : Calls Try.prog 11 #[.int .i32 u] w fun e w' => e = .returned (putV (sE u)) ∧ w.grownBy w' none := by
  unfold sE
  cases hb : C14.hbR u with
  | some b => exact ps_half u b (hb_some hb).1 (Hid.mk' hb) w
  | none =>
    simp only
    cases ep : C14.plT u with
    | mk A q =>
    obtain ⟨D, ok⟩ := q
    cases ok with
    | true =>
      obtain ⟨r1, r2, c1, c2, u0, he⟩ := C14.place_back ep
      have hK : pkT (A : Int) (D : Int) = (ldN A, trN A D, true) := by
        unfold pkT
        rw [if_pos (by unfold In2; omega), Int.toNat_natCast, Int.toNat_natCast]
      exact ps_place u (Hid.mk' hb) A D (Hid.mk' ep) _ _ (ld_is r1 r2).2 (tr_is c1 c2).2 (Hid.mk' hK) w
    | false =>
      obtain ⟨rfl, rfl⟩ := plT_zero ep
      have hK : pkT ((0 : Nat) : Int) ((0 : Nat) : Int) = (0, 0, false) := by decide
      exact ps_none u (Hid.mk' hb) 0 0 false (Hid.mk' ep) 0 0 (Hid.mk' hK) w
theorem rest_n {w : World} {g o cap : Nat} {b : UInt8} {r : List UInt8} (h : Bytes w (some ⟨g, o, none⟩) (b :: r)) (hc : (b :: r).length ≤ cap) (h1 : ¬ cap = 1) : Bytes w (some ⟨g, o + 1, none⟩) r := by
  have h2 := h.drop 1 cap hc
  rw [if_neg h1] at h2
  exact h2
theorem rest_z {w : World} {g o : Nat} : Bytes w (some ⟨g, o, none⟩) [] := .inr ⟨_, rfl, fun j hj => by simp at hj⟩
theorem pair_any (b : UInt8) (r : List UInt8) (la : lead b.toNat = true) (bo : Option Addr) (n m : Nat) (w : World) (hB : Bytes w bo r) (hn : r.length = n) (hc : n ≤ m) (hcm : m ≤ 9223372036854775807) : Hid (∀ w1, w.grownBy w1 none → Calls Try.prog 19 #[.int .u8 (b.toNat : Int), .slice bo n m] w1 fun e w2 => e = .returned (gotV (gE (b :: r))) ∧ w1.grownBy w2 none) := Hid.mk' (fun w1 hg => by
  have hB1 := hB.kept0 hg
  have hb := b.toNat_lt
  subst hn
  unfold gE
  simp only
  rw [if_neg (by simp [la])]
  cases r with
  | nil => exact gp_one w1 _ bo m
  | cons c r =>
    obtain ⟨g, o, rfl, hy0⟩ := first_cell hB1
    have hcc := c.toNat_lt
    have hl5 : 0 < (c :: r).length := by simp
    simp only
    unfold gE2
    cases tb : trail c.toNat with
    | false =>
      rw [if_pos rfl]
      have hU : upT b.toNat c.toNat = (0, 0, false) := by
        unfold upT
        rw [if_neg (by simp [tb])]
      exact gp_bad w1 _ g o _ (Hid.mk' hy0) _ m hc hcm hl5 hb hcc 0 0 (Hid.mk' hU)
    | true =>
      rw [if_neg (by simp)]
      have hU : upT b.toNat c.toNat = (upR b.toNat c.toNat, upC c.toNat, true) := by
        unfold upT
        rw [if_pos ⟨la, tb⟩]
      have hD := (of_up la tb).2.2.2.1
      cases he : C14.scP (upR b.toNat c.toNat : Int) (upC c.toNat : Int) with
      | none => exact gp_none w1 _ g o _ (Hid.mk' hy0) _ m hc hcm hl5 hb hcc _ _ hD (Hid.mk' hU) (Hid.mk' he)
      | some q => exact gp_some w1 _ g o _ (Hid.mk' hy0) _ m hc hcm hl5 hb hcc _ _ hD (Hid.mk' hU) q (Hid.mk' he))
theorem get_any (ao : Option Addr) (cap : Nat) (L : List UInt8) (n : Nat) (hn : L.length = n) (w : World) (hB : Bytes w ao L) (hc : n ≤ cap) (hcm : cap ≤ 9223372036854775807) : Calls Try.prog 9 #[.slice ao n cap] w fun e w' => e = .returned (gotV (gE L)) ∧ w.grownBy w' none := by
  subst hn
  cases L with
  | nil => exact pg_more w ao cap
  | cons b r =>
    have hB0 := hB
    obtain ⟨g, o, rfl, hy0⟩ := first_cell hB
    have hy := Hid.mk' hy0
    have hb := b.toNat_lt
    have hl1 : 0 < (b :: r).length := by simp
    have hl4 : (((b :: r).length : Int) == 0) = false := by simp; omega
    cases la : lead b.toNat with
    | false =>
      have e : gE (b :: r) = gE1 b.toNat := by
        unfold gE
        simp only
        rw [if_pos la]
      rw [e]
      unfold gE1
      cases ha : C14.haR b.toNat with
      | none => exact pg_hn w g o _ hy _ cap hc hcm hl1 hl4 hb (Hid.mk' la) (Hid.mk' ha)
      | some n => exact pg_hs w g o _ hy _ cap hc hcm hl1 hl4 hb (Hid.mk' la) n (Hid.mk' ha)
    | true =>
      by_cases hq : cap = 1
      · subst hq
        obtain rfl : r = [] := by cases r with | nil => rfl | cons x y => simp at hc
        have hp := pair_any b [] la _ 0 0 w (rest_z (g := g) (o := o)) rfl (by omega) (by omega)
        exact pg_pairz w g o _ hy _ (Hid.mk' la) (Hid.mk' rfl) _ _ _ _ hp
      · have hp := pair_any b r la _ ((b :: r).length - 1) (cap - 1) w (rest_n hB0 hc hq) (by simp) (by simp at hc ⊢; omega) (by omega)
        exact pg_pairn w g o _ hy _ cap hc hcm hl1 hl4 hq _ (Hid.mk' la) (Hid.mk' rfl) _ _ _ _ hp
theorem con : Con (fun _ => True) where
  keep _ _ := trivial
  get ao cap L n hn w hB hc hcm _ := get_any ao cap L n hn w hB hc hcm
  set u hu w _ := set_any u w
  pack r c hr hc A D ok hP w _ := pPack r c A D ok hP w
  unpack a b ha hb A D ok hU w _ := pUnpack a b ha hb A D ok hU w
end Go.Proofs.Ytkkdaoimnmghgaa.C18
