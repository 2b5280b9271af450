/- The document's Get of layer 17: pairs: walks. -/
import Derived.Test.YtcbjkamjkaiofaaEG17
import Derived.Deep.RegionHeld3
import Derived.BigQuiet
namespace Go.Proofs.Ytcbjkamjkaiofaa.C17
open Go.ChangeShapes Go.WideShapes Go.ChangeAt Go.RowKit Go.Proofs.Ytcbjkamjkaiofaa.Mem Go.Proofs.Ytcbjkamjkaiofaa.Cb Go.Proofs.Ytcbjkamjkaiofaa.Sp
set_option linter.unusedVariables false
set_option linter.unusedSimpArgs false

set_option maxRecDepth 100000 in
set_option maxHeartbeats 1000000 in
theorem g_none (w : World) (k : Int) (hk : Hid (has k = true)) (g o : Nat) (b : Nat) (hy0 : Hid (∀ wx, w.grownBy wx none → wx.cell? ⟨g, o, none⟩ = some (.int .u8 (b : Int)))) (c : Nat) (hy1 : Hid (∀ wx, w.grownBy wx none → wx.cell? ⟨g, o + 1, none⟩ = some (.int .u8 (c : Int)))) (len cap : Nat) (hl1 : 0 < len) (hl2 : len ≤ cap) (hl3 : cap ≤ 9223372036854775807) (hl4 : ((len : Int) == 0) = false) (hl5 : 1 < len) (hl6 : ((len : Int) == 1) = false) (h1 : 161 ≤ b) (hh2 : b ≤ 254) (h5 : 161 ≤ c) (h6 : c ≤ 254) (x y : Int) (hx : (b : Int) - 160 = x) (hy : (c : Int) - 160 = y) (n : Nat) (hR : Hid (esc k x y = none)) : Calls Try.prog 9 #[.int .i64 k, .slice (some ⟨g, o, none⟩) len cap] w fun e w' => e = .returned (.agg (gZ 10 2 0 0)) ∧ w.grownBy w' none := by
  have h1' : ¬ (b : Int) < 128 := by omega
  have h2 : ((b : Int) == 142) = false := by simp; omega
  have h3' : decide ((b : Int) < 161) = false := by simp; omega
  have h4' : decide (254 < (b : Int)) = false := by simp; omega
  have h5' : decide ((c : Int) < 161) = false := by simp; omega
  have h6' : decide (254 < (c : Int)) = false := by simp; omega
  have e1 : (b : Int) - 160 = x := hx
  have hl7 : (1 : Int) < (len : Int) := by omega
  have hl8 : (0 : Int) < (len : Int) := by omega
  have e2 : (c : Int) - 160 = y := hy
  have e5 : IntKind.i64.wrap (b : Int) = (b : Int) := by rw [IntKind.wrap_i64]; omega
  have e6 : IntKind.i64.wrap (c : Int) = (c : Int) := by rw [IntKind.wrap_i64]; omega
  have e3 : IntKind.i64.wrap x = x := by rw [IntKind.wrap_i64]; omega
  have e4 : IntKind.i64.wrap y = y := by rw [IntKind.wrap_i64]; omega
  go_enter Try.func9, Try.ntmps9
  go_upto_region 1 with (refine wpList_allocC _ rfl 28 rfl (gZ 0 0 0 0) (zeroG _) ?_; intro w1 rs1 hg1)
  have hG1 : Hid (w.grownBy w1 none) := Hid.mk' hg1
  have hB : Hid (w.heap.size ≤ w.heap.size) := Hid.mk' (Nat.le_refl _)
  obtain ⟨B, hBe⟩ : ∃ B, Hid (w.heap.size = B) := ⟨_, Hid.mk' rfl⟩
  have hB2 : Hid (w.heap.size ≤ B) := Hid.mk' (by rw [← hBe.out]; exact hB.out)
  rw [hBe.out] at rs1
  rw [hBe.out]
  clear hg1 hB hBe
  have y0 := hy0.out _ hG1.out; have y1 := hy1.out _ hG1.out
  go_upto_region 17 with (first
    | (go_at_call 11; refine (hasRef k true hk _).mono ?_; rintro e w2 ⟨rfl, hg⟩; have rs2 := rs1.kept0 hg; have hG2 : Hid (w.grownBy w2 none) := Hid.mk' (gt hG1.out hg); clear y0 y1; have y0 := hy0.out _ hG2.out; have y1 := hy1.out _ hG2.out; clear rs1 hg))
  have hS : Hid (∀ wx, w.grownBy wx none → wx.cell? ⟨g, o, none⟩ = some (.int .u8 (b : Int)) ∧ wx.cell? ⟨g, o + 1, none⟩ = some (.int .u8 (c : Int))) := Hid.mk' (fun wx hg => ⟨hy0.out _ hg, hy1.out _ hg⟩)
  have hS0 := hS.out _ hG2.out
  have hSd := hS.out _ (grownBy_drew hG2.out)
  go_region_held3 (fun w' => w'.cell? ⟨g, o, none⟩ = some (.int .u8 (b : Int)) ∧ w'.cell? ⟨g, o + 1, none⟩ = some (.int .u8 (c : Int))) (first | assumption | exact hS0) (first
    | (go_at_call 15; refine (scRef k x y (by unfold C14.I64; omega) _ none hR).mono ?_; rintro e w3 ⟨rfl, hg⟩; have rs3 : Hid (CA w3 B 28 (gZ 0 0 0 0)) := Hid.mk' (rs2.kept0 (by (repeat (first | with_reducible exact grownBy_refl _ _ | (with_reducible refine gs ?_ ?_; first | omega | (simp; omega)) | with_reducible refine ga ?_ | with_reducible refine gd ?_ | with_reducible refine gdn ?_ | with_reducible refine gt ?_ (by assumption))))); have hG3 : Hid (w.grownBy w3 none) := Hid.mk' (gt hG2.out (by (repeat (first | with_reducible exact grownBy_refl _ _ | (with_reducible refine gs ?_ ?_; first | omega | (simp; omega)) | with_reducible refine ga ?_ | with_reducible refine gd ?_ | with_reducible refine gdn ?_ | with_reducible refine gt ?_ (by assumption))))); have hS3 := hS.out _ hG3.out))
  go_wp2_with (refine wpList_storeC _ rfl 28 _ _ rfl B (gZ 0 0 0 0) (gZ 10 2 0 0) infoG rfl (gC_one _ _ _ _ _ _ _ _ _) rfl rfl rs3.out ?_; intro wz rsz hgz)
  refine bodyPost_ret (v := .agg (gZ 10 2 0 0)) (results_cell_row Try.results9 _ wz B 28 _ (0, 0) _ rfl rsz Try.underlying28 rfl infoG) rfl ⟨rfl, ?_⟩
  exact grownBy_new hG3.out hgz (fun k hk => by have h5 := Option.some.inj hk; have h6 := hB2.out; omega)
set_option maxRecDepth 100000 in
set_option maxHeartbeats 1000000 in
theorem g_some (w : World) (k : Int) (hk : Hid (has k = true)) (g o : Nat) (b : Nat) (hy0 : Hid (∀ wx, w.grownBy wx none → wx.cell? ⟨g, o, none⟩ = some (.int .u8 (b : Int)))) (c : Nat) (hy1 : Hid (∀ wx, w.grownBy wx none → wx.cell? ⟨g, o + 1, none⟩ = some (.int .u8 (c : Int)))) (len cap : Nat) (hl1 : 0 < len) (hl2 : len ≤ cap) (hl3 : cap ≤ 9223372036854775807) (hl4 : ((len : Int) == 0) = false) (hl5 : 1 < len) (hl6 : ((len : Int) == 1) = false) (h1 : 161 ≤ b) (hh2 : b ≤ 254) (h5 : 161 ≤ c) (h6 : c ≤ 254) (x y : Int) (hx : (b : Int) - 160 = x) (hy : (c : Int) - 160 = y) (n : Nat) (hR : Hid (esc k x y = (some n))) : Calls Try.prog 9 #[.int .i64 k, .slice (some ⟨g, o, none⟩) len cap] w fun e w' => e = .returned (.agg (gZ 0 2 1 (n : Int))) ∧ w.grownBy w' none := by
  have h1' : ¬ (b : Int) < 128 := by omega
  have h2 : ((b : Int) == 142) = false := by simp; omega
  have h3' : decide ((b : Int) < 161) = false := by simp; omega
  have h4' : decide (254 < (b : Int)) = false := by simp; omega
  have h5' : decide ((c : Int) < 161) = false := by simp; omega
  have h6' : decide (254 < (c : Int)) = false := by simp; omega
  have e1 : (b : Int) - 160 = x := hx
  have hl7 : (1 : Int) < (len : Int) := by omega
  have hl8 : (0 : Int) < (len : Int) := by omega
  have e2 : (c : Int) - 160 = y := hy
  have e5 : IntKind.i64.wrap (b : Int) = (b : Int) := by rw [IntKind.wrap_i64]; omega
  have e6 : IntKind.i64.wrap (c : Int) = (c : Int) := by rw [IntKind.wrap_i64]; omega
  have e3 : IntKind.i64.wrap x = x := by rw [IntKind.wrap_i64]; omega
  have e4 : IntKind.i64.wrap y = y := by rw [IntKind.wrap_i64]; omega
  go_enter Try.func9, Try.ntmps9
  go_upto_region 1 with (refine wpList_allocC _ rfl 28 rfl (gZ 0 0 0 0) (zeroG _) ?_; intro w1 rs1 hg1)
  have hG1 : Hid (w.grownBy w1 none) := Hid.mk' hg1
  have hB : Hid (w.heap.size ≤ w.heap.size) := Hid.mk' (Nat.le_refl _)
  obtain ⟨B, hBe⟩ : ∃ B, Hid (w.heap.size = B) := ⟨_, Hid.mk' rfl⟩
  have hB2 : Hid (w.heap.size ≤ B) := Hid.mk' (by rw [← hBe.out]; exact hB.out)
  rw [hBe.out] at rs1
  rw [hBe.out]
  clear hg1 hB hBe
  have y0 := hy0.out _ hG1.out; have y1 := hy1.out _ hG1.out
  go_upto_region 17 with (first
    | (go_at_call 11; refine (hasRef k true hk _).mono ?_; rintro e w2 ⟨rfl, hg⟩; have rs2 := rs1.kept0 hg; have hG2 : Hid (w.grownBy w2 none) := Hid.mk' (gt hG1.out hg); clear y0 y1; have y0 := hy0.out _ hG2.out; have y1 := hy1.out _ hG2.out; clear rs1 hg))
  have hS : Hid (∀ wx, w.grownBy wx none → wx.cell? ⟨g, o, none⟩ = some (.int .u8 (b : Int)) ∧ wx.cell? ⟨g, o + 1, none⟩ = some (.int .u8 (c : Int))) := Hid.mk' (fun wx hg => ⟨hy0.out _ hg, hy1.out _ hg⟩)
  have hS0 := hS.out _ hG2.out
  have hSd := hS.out _ (grownBy_drew hG2.out)
  go_region_held3 (fun w' => w'.cell? ⟨g, o, none⟩ = some (.int .u8 (b : Int)) ∧ w'.cell? ⟨g, o + 1, none⟩ = some (.int .u8 (c : Int))) (first | assumption | exact hS0) (first
    | (go_at_call 15; refine (scRef k x y (by unfold C14.I64; omega) _ (some n) hR).mono ?_; rintro e w3 ⟨rfl, hg⟩; have rs3 : Hid (CA w3 B 28 (gZ 0 0 0 0)) := Hid.mk' (rs2.kept0 (by (repeat (first | with_reducible exact grownBy_refl _ _ | (with_reducible refine gs ?_ ?_; first | omega | (simp; omega)) | with_reducible refine ga ?_ | with_reducible refine gd ?_ | with_reducible refine gdn ?_ | with_reducible refine gt ?_ (by assumption))))); have hG3 : Hid (w.grownBy w3 none) := Hid.mk' (gt hG2.out (by (repeat (first | with_reducible exact grownBy_refl _ _ | (with_reducible refine gs ?_ ?_; first | omega | (simp; omega)) | with_reducible refine ga ?_ | with_reducible refine gd ?_ | with_reducible refine gdn ?_ | with_reducible refine gt ?_ (by assumption))))); have hS3 := hS.out _ hG3.out))
  go_wp2_with (refine wpList_storeC _ rfl 28 _ _ rfl B (gZ 0 0 0 0) (gZ 0 2 1 (n : Int)) infoG rfl (gC_one _ _ _ _ _ _ _ _ _) rfl rfl rs3.out ?_; intro wz rsz hgz)
  refine bodyPost_ret (v := .agg (gZ 0 2 1 (n : Int))) (results_cell_row Try.results9 _ wz B 28 _ (0, 0) _ rfl rsz Try.underlying28 rfl infoG) rfl ⟨rfl, ?_⟩
  exact grownBy_new hG3.out hgz (fun k hk => by have h5 := Option.some.inj hk; have h6 := hB2.out; omega)
end Go.Proofs.Ytcbjkamjkaiofaa.C17
