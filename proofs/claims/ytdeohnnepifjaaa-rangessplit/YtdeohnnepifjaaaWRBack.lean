/- RangesBack: walks. -/
import Derived.Test.YtdeohnnepifjaaaWOne
import Derived.Test.YtdeohnnepifjaaaSame
namespace Go.Proofs.Ytdeohnnepifjaaa.Rn
open Go.ChangeShapes Go.WideShapes Go.ChangeAt Go.RowKit Go.Proofs.Ytdeohnnepifjaaa.Mem Go.Proofs.Ytdeohnnepifjaaa.Ucs Go.Proofs.Ytdeohnnepifjaaa.El
set_option linter.unusedVariables false
set_option linter.unusedSimpArgs false

theorem pairsR_packOf {P : List Pr} (h : rightE P = 0) : pairsR (packOf P) = P := by unfold pairsR; rw [if_pos (packOf_check h), packOf_pairs]
theorem packR_ok {P : List Pr} (h : rightE P = 0) : packR P = packOf P := by unfold packR; rw [if_pos h]

set_option maxRecDepth 100000 in
set_option maxHeartbeats 8000000 in
theorem rback_11 (ao0 : Option Addr) (cap0 : Nat) (L : List Pr) (ao1 : Option Addr) (cap1 : Nat) (T : List Rg) (w : World) (hrd0 : PE.Rd w ao0 L) (hle0 : L.length ≤ cap0) (hcb0 : cap0 ≤ 140737488351232) (hrd1 : RE.Rd w ao1 T) (hle1 : T.length ≤ cap1) (hcb1 : cap1 ≤ 140737488351232)
    (hT : Hid (checkR T = 0)) (hE : Hid (rightE L = 0)) :
    Calls Try.prog 5 #[.slice ao0 L.length cap0, .slice ao1 T.length cap1] w fun e w' => e = .returned (.bool true) ∧ Below w.heap.size w w' := by
  have HL : Hid (PE.Rd w ao0 L) := hrd0
  have HT : Hid (RE.Rd w ao1 T) := hrd1
  clear hrd0 hrd1
  obtain ⟨P, hP⟩ : ∃ P, Hid (pairsR T = P) := ⟨_, (rfl : pairsR T = pairsR T)⟩
  have hPo : P = pairsOf T := by rw [← hP.out]; unfold pairsR; rw [if_pos hT.out]
  have hPr : rightE P = 0 := by rw [hPo]; exact pairsOf_right hT.out
  have HPr : Hid (rightE P = 0) := hPr
  obtain ⟨X, hX⟩ : ∃ X, Hid (packR P = X) := ⟨_, (rfl : packR P = packR P)⟩
  have hXl : X.length ≤ T.length := by rw [← hX.out, packR_ok hPr, hPo]; exact packOf_le (checkR_ok.1 hT.out).2.1
  have HXP : Hid (pairsR X = P) := (by rw [← hX.out, packR_ok hPr]; exact pairsR_packOf hPr : pairsR X = P)
  have hXd : decide (T.length < X.length) = false := by simp; omega
  clear hPo hPr
  obtain ⟨Y, hY⟩ : ∃ Y, Hid (packR L = Y) := ⟨_, (rfl : packR L = packR L)⟩
  have HY : Hid (Y = packOf L) := (by rw [← hY.out, packR_ok hE.out] : Y = packOf L)
  have HYc : Hid (checkR Y = 0) := (by rw [HY.out]; exact packOf_check hE.out : checkR Y = 0)
  have HYo : Hid (okFrom (-1) Y = true) := (checkR_ok.1 HYc.out).2.1
  have hYm : Y.length ≤ 65536 := (checkR_ok.1 HYc.out).1
  have HYp : Hid (pairsR Y = L) := (by rw [HY.out]; exact pairsR_packOf hE.out : pairsR Y = L)
  have HYq : Hid (pairsOf Y = L) := (by rw [HY.out]; exact packOf_pairs L : pairsOf Y = L)
  have hYl : Y.length ≤ L.length := by rw [HY.out]; exact packOf_length L
  have hYd : decide (L.length < Y.length) = false := by simp; omega
  have hLm : L.length ≤ 65536 := (rightE_ok.1 hE.out).1
  have HLk : Hid (okP (-1) L = true) := (rightE_ok.1 hE.out).2
  clear HY
  go_enter Try.func5, Try.ntmps5
  go_upto_region 4 with (first | (go_at_call 20; refine (works_any _).mono ?_; rintro e w1 ⟨rfl, hg1⟩) | (go_at_call 13; refine (check_any _ _ T _ (HT.out.kept0 hg1) hle1 (by omega) 0 hT).mono ?_; rintro e w2 ⟨rfl, hg2⟩))
  have K2 : Hid (w.grownBy w2 none) := gt hg1 hg2
  clear hg1 hg2
  go_upto_region 5 with (go_at_call 15; refine (pairs_any _ _ T _ (HT.out.kept0 K2.out) hle1 (by omega) P hP).mono ?_; rintro e w3 ⟨ro3, rc3, rfl, ho3, hg3⟩; have HP3 := Hid.mk' ho3.rd; have p3 := ho3.cap_le; have p4 := ho3.cap_max; clear ho3)
  go_upto_region 6 with (go_at_call 8; refine (pack_any _ _ P _ HP3.out p3 p4 0 HPr X hX).mono ?_; rintro e w4 ⟨ro4, rc4, rfl, ho4, hg4⟩; have HX4 := Hid.mk' ho4.rd; have p5 := ho4.cap_le; have p6 := ho4.cap_max; clear ho4)
  go_upto_region 8 with (first | (go_at_call 15; refine (pairs_any _ _ X _ HX4.out p5 p6 P HXP).mono ?_; rintro e w5 ⟨ro5, rc5, rfl, ho5, hg5⟩; have HP5 := Hid.mk' ho5.rd; have p7 := ho5.cap_le; have p8 := ho5.cap_max; clear ho5) | (go_at_call 11; refine (samePairs_eq _ _ _ _ P _ HP5.out (HP3.out.kept0 (gt hg4 hg5)) p7 p8 p3 p4).mono ?_; rintro e w6 ⟨rfl, hg6⟩))
  have K6 : Hid (w.grownBy w6 none) := gt (gt (gt (gt K2.out hg3) hg4) hg5) hg6
  clear hg3 hg4 hg5 hg6 K2 HP3 HX4 HP5
  go_upto_region 9 with (go_at_call 8; refine (pack_any _ _ L _ (HL.out.kept0 K6.out) hle0 (by omega) 0 hE Y hY).mono ?_; rintro e w7 ⟨ro7, rc7, rfl, ho7, hg7⟩; have HY7 := Hid.mk' ho7.rd; have p9 := ho7.cap_le; have p10 := ho7.cap_max; clear ho7)
  have K7 : Hid (w.grownBy w7 none) := gt K6.out hg7
  clear K6 hg7
  go_upto_region 13 with (first | (go_at_call 13; refine (check_any _ _ Y _ HY7.out p9 p10 0 HYc).mono ?_; rintro e w8 ⟨rfl, hg8⟩) | (go_at_call 15; refine (pairs_any _ _ Y _ (HY7.out.kept0 hg8) p9 p10 L HYp).mono ?_; rintro e w9 ⟨ro9, rc9, rfl, ho9, hg9⟩; have HP9 := Hid.mk' ho9.rd; have p11 := ho9.cap_le; have p12 := ho9.cap_max; clear ho9) | (go_at_call 11; refine (samePairs_eq _ _ _ _ L _ HP9.out (HL.out.kept0 (gt K7.out (gt hg8 hg9))) p11 p12 hle0 (by omega)).mono ?_; rintro e wS ⟨rfl, hgS⟩))
  have KS : Hid (w.grownBy wS none) := gt (gt (gt K7.out hg8) hg9) hgS
  have HYS : Hid (RE.Rd wS ro7 Y) := HY7.out.kept0 (gt (gt hg8 hg9) hgS)
  clear hg8 hg9 hgS K7 HP9 HY7
  go_wp2
  go_loopw [10] (fun t10 wx => ∃ i : Nat, i ≤ L.length ∧ t10 = .int .i64 (i : Int) ∧ Hid (wS.grownBy wx none)) (fun t10 _ => L.length - (intOf t10).toNat)
  case atStart => exact ⟨0, by omega, rfl, grownBy_refl _ _⟩
  case round =>
    obtain ⟨i, hi, rfl, hgx⟩ := hrel
    by_cases hlt : i < L.length
    · by_cases h300 : i < 300
      · obtain ⟨c, u, he⟩ : ∃ c u, L[i] = (c, u) := ⟨_, _, rfl⟩
        obtain ⟨b, o, rfl, hb, x0, x1⟩ := pcells (HL.out.kept0 (gt KS.out hgx.out)) hlt he
        have h1 := pS_at HLk.out i hlt
        obtain ⟨d, h2, _, h3, h4⟩ := pC_at HLk.out i hlt
        rw [he] at h1 h2 h3 h4
        simp only at h1 h2 h3 h4
        have H1 : Hid (scalR Y c = some u) := (by rw [scalR_eq HYo.out, HYq.out]; exact h1 : scalR Y c = some u)
        have H2 : Hid (codeR Y u = some d) := (by rw [codeR_eq HYo.out, HYq.out]; exact h2 : codeR Y u = some d)
        have H4 : Hid (scalR Y d = some u) := (by rw [scalR_eq HYo.out, HYq.out]; exact h4 : scalR Y d = some u)
        have hlt' : (i : Int) < (L.length : Int) := by omega
        have hi0 : (0 : Int) ≤ (i : Int) := by omega
        have h300' : (i : Int) < 300 := by omega
        clear he h1 h2 h4
        go_wp2_with (first | (go_at_call_of 16 (Value.int IntKind.i64 c); refine (scalar_of _ _ Y c _ (HYS.out.kept0 hgx.out) p9 p10 hYm HYo (some u) H1).mono ?_; rintro e wa ⟨rfl, hga⟩; have y0 := hga.cell x0 (by simp); have y1 := hga.cell x1 (by simp)) | (go_at_call 18; refine (code_of _ _ Y u _ (HYS.out.kept0 (gt hgx.out hga)) p9 p10 hYm HYo (some d) H2).mono ?_; rintro e wb ⟨rfl, hgb⟩; have z0 := hgb.cell y0 (by simp); have z1 := hgb.cell y1 (by simp)) | (go_at_call_of 16 (Value.int IntKind.i64 d); refine (scalar_of _ _ Y d _ (HYS.out.kept0 (gt (gt hgx.out hga) hgb)) p9 p10 hYm HYo (some u) H4).mono ?_; rintro e wc ⟨rfl, hgc⟩; have q0 := hgc.cell z0 (by simp); have q1 := hgc.cell z1 (by simp)))
        go_roundw
        case rel => exact ⟨i + 1, by omega, by go_num, gt (gt (gt hgx.out hga) hgb) hgc⟩
        case measure => simp [intOf]; omega
      · have h300' : ¬ (i : Int) < 300 := by omega
        have hlt' : (i : Int) < (L.length : Int) := by omega
        go_wp2
        go_ret
        exact ⟨rfl, below_g (gt KS.out hgx.out)⟩
    · obtain rfl : i = L.length := by omega
      go_wp2
      go_ret
      exact ⟨rfl, below_g (gt KS.out hgx.out)⟩

set_option maxRecDepth 100000 in
set_option maxHeartbeats 8000000 in
theorem rback_10 (ao0 : Option Addr) (cap0 : Nat) (L : List Pr) (ao1 : Option Addr) (cap1 : Nat) (T : List Rg) (w : World) (hrd0 : PE.Rd w ao0 L) (hle0 : L.length ≤ cap0) (hcb0 : cap0 ≤ 140737488351232) (hrd1 : RE.Rd w ao1 T) (hle1 : T.length ≤ cap1) (hcb1 : cap1 ≤ 140737488351232)
    (hT : Hid (checkR T = 0)) (E : Int) (hE0 : E ≠ 0) (hE : Hid (rightE L = E)) :
    Calls Try.prog 5 #[.slice ao0 L.length cap0, .slice ao1 T.length cap1] w fun e w' => e = .returned (.bool true) ∧ Below w.heap.size w w' := by
  have HL : Hid (PE.Rd w ao0 L) := hrd0
  have HT : Hid (RE.Rd w ao1 T) := hrd1
  clear hrd0 hrd1
  obtain ⟨P, hP⟩ : ∃ P, Hid (pairsR T = P) := ⟨_, (rfl : pairsR T = pairsR T)⟩
  have hPo : P = pairsOf T := by rw [← hP.out]; unfold pairsR; rw [if_pos hT.out]
  have hPr : rightE P = 0 := by rw [hPo]; exact pairsOf_right hT.out
  have HPr : Hid (rightE P = 0) := hPr
  obtain ⟨X, hX⟩ : ∃ X, Hid (packR P = X) := ⟨_, (rfl : packR P = packR P)⟩
  have hXl : X.length ≤ T.length := by rw [← hX.out, packR_ok hPr, hPo]; exact packOf_le (checkR_ok.1 hT.out).2.1
  have HXP : Hid (pairsR X = P) := (by rw [← hX.out, packR_ok hPr]; exact pairsR_packOf hPr : pairsR X = P)
  have hXd : decide (T.length < X.length) = false := by simp; omega
  clear hPo hPr
  have hY : Hid (packR L = []) := (by unfold packR; rw [hE.out, if_neg hE0] : packR L = [])
  have hE1 : (E == 0) = false := by simpa using hE0
  go_enter Try.func5, Try.ntmps5
  go_upto_region 4 with (first | (go_at_call 20; refine (works_any _).mono ?_; rintro e w1 ⟨rfl, hg1⟩) | (go_at_call 13; refine (check_any _ _ T _ (HT.out.kept0 hg1) hle1 (by omega) 0 hT).mono ?_; rintro e w2 ⟨rfl, hg2⟩))
  have K2 : Hid (w.grownBy w2 none) := gt hg1 hg2
  clear hg1 hg2
  go_upto_region 5 with (go_at_call 15; refine (pairs_any _ _ T _ (HT.out.kept0 K2.out) hle1 (by omega) P hP).mono ?_; rintro e w3 ⟨ro3, rc3, rfl, ho3, hg3⟩; have HP3 := Hid.mk' ho3.rd; have p3 := ho3.cap_le; have p4 := ho3.cap_max; clear ho3)
  go_upto_region 6 with (go_at_call 8; refine (pack_any _ _ P _ HP3.out p3 p4 0 HPr X hX).mono ?_; rintro e w4 ⟨ro4, rc4, rfl, ho4, hg4⟩; have HX4 := Hid.mk' ho4.rd; have p5 := ho4.cap_le; have p6 := ho4.cap_max; clear ho4)
  go_upto_region 8 with (first | (go_at_call 15; refine (pairs_any _ _ X _ HX4.out p5 p6 P HXP).mono ?_; rintro e w5 ⟨ro5, rc5, rfl, ho5, hg5⟩; have HP5 := Hid.mk' ho5.rd; have p7 := ho5.cap_le; have p8 := ho5.cap_max; clear ho5) | (go_at_call 11; refine (samePairs_eq _ _ _ _ P _ HP5.out (HP3.out.kept0 (gt hg4 hg5)) p7 p8 p3 p4).mono ?_; rintro e w6 ⟨rfl, hg6⟩))
  have K6 : Hid (w.grownBy w6 none) := gt (gt (gt (gt K2.out hg3) hg4) hg5) hg6
  clear hg3 hg4 hg5 hg6 K2 HP3 HX4 HP5
  go_wp2_with (go_at_call 8; refine (pack_any _ _ L _ (HL.out.kept0 K6.out) hle0 (by omega) E hE [] hY).mono ?_; rintro e w7 ⟨ro7, rc7, rfl, ho7, hg7⟩)
  go_ret
  exact ⟨rfl, below_g (gt K6.out hg7)⟩

set_option maxRecDepth 100000 in
set_option maxHeartbeats 8000000 in
theorem rback_01 (ao0 : Option Addr) (cap0 : Nat) (L : List Pr) (ao1 : Option Addr) (cap1 : Nat) (T : List Rg) (w : World) (hrd0 : PE.Rd w ao0 L) (hle0 : L.length ≤ cap0) (hcb0 : cap0 ≤ 140737488351232) (hrd1 : RE.Rd w ao1 T) (hle1 : T.length ≤ cap1) (hcb1 : cap1 ≤ 140737488351232)
    (F : Int) (hF : F ≠ 0) (hT : Hid (checkR T = F)) (hE : Hid (rightE L = 0)) :
    Calls Try.prog 5 #[.slice ao0 L.length cap0, .slice ao1 T.length cap1] w fun e w' => e = .returned (.bool true) ∧ Below w.heap.size w w' := by
  have HL : Hid (PE.Rd w ao0 L) := hrd0
  have HT : Hid (RE.Rd w ao1 T) := hrd1
  clear hrd0 hrd1
  have hF1 : (F == 0) = false := by simpa using hF
  obtain ⟨Y, hY⟩ : ∃ Y, Hid (packR L = Y) := ⟨_, (rfl : packR L = packR L)⟩
  have HY : Hid (Y = packOf L) := (by rw [← hY.out, packR_ok hE.out] : Y = packOf L)
  have HYc : Hid (checkR Y = 0) := (by rw [HY.out]; exact packOf_check hE.out : checkR Y = 0)
  have HYo : Hid (okFrom (-1) Y = true) := (checkR_ok.1 HYc.out).2.1
  have hYm : Y.length ≤ 65536 := (checkR_ok.1 HYc.out).1
  have HYp : Hid (pairsR Y = L) := (by rw [HY.out]; exact pairsR_packOf hE.out : pairsR Y = L)
  have HYq : Hid (pairsOf Y = L) := (by rw [HY.out]; exact packOf_pairs L : pairsOf Y = L)
  have hYl : Y.length ≤ L.length := by rw [HY.out]; exact packOf_length L
  have hYd : decide (L.length < Y.length) = false := by simp; omega
  have hLm : L.length ≤ 65536 := (rightE_ok.1 hE.out).1
  have HLk : Hid (okP (-1) L = true) := (rightE_ok.1 hE.out).2
  clear HY
  go_enter Try.func5, Try.ntmps5
  go_upto_region 8 with (first | (go_at_call 20; refine (works_any _).mono ?_; rintro e w1 ⟨rfl, hg1⟩) | (go_at_call 13; refine (check_any _ _ T _ (HT.out.kept0 hg1) hle1 (by omega) F hT).mono ?_; rintro e w6 ⟨rfl, hg6⟩))
  have K6 : Hid (w.grownBy w6 none) := gt hg1 hg6
  clear hg1 hg6
  go_upto_region 9 with (go_at_call 8; refine (pack_any _ _ L _ (HL.out.kept0 K6.out) hle0 (by omega) 0 hE Y hY).mono ?_; rintro e w7 ⟨ro7, rc7, rfl, ho7, hg7⟩; have HY7 := Hid.mk' ho7.rd; have p9 := ho7.cap_le; have p10 := ho7.cap_max; clear ho7)
  have K7 : Hid (w.grownBy w7 none) := gt K6.out hg7
  clear K6 hg7
  go_upto_region 13 with (first | (go_at_call 13; refine (check_any _ _ Y _ HY7.out p9 p10 0 HYc).mono ?_; rintro e w8 ⟨rfl, hg8⟩) | (go_at_call 15; refine (pairs_any _ _ Y _ (HY7.out.kept0 hg8) p9 p10 L HYp).mono ?_; rintro e w9 ⟨ro9, rc9, rfl, ho9, hg9⟩; have HP9 := Hid.mk' ho9.rd; have p11 := ho9.cap_le; have p12 := ho9.cap_max; clear ho9) | (go_at_call 11; refine (samePairs_eq _ _ _ _ L _ HP9.out (HL.out.kept0 (gt K7.out (gt hg8 hg9))) p11 p12 hle0 (by omega)).mono ?_; rintro e wS ⟨rfl, hgS⟩))
  have KS : Hid (w.grownBy wS none) := gt (gt (gt K7.out hg8) hg9) hgS
  have HYS : Hid (RE.Rd wS ro7 Y) := HY7.out.kept0 (gt (gt hg8 hg9) hgS)
  clear hg8 hg9 hgS K7 HP9 HY7
  go_wp2
  go_loopw [10] (fun t10 wx => ∃ i : Nat, i ≤ L.length ∧ t10 = .int .i64 (i : Int) ∧ Hid (wS.grownBy wx none)) (fun t10 _ => L.length - (intOf t10).toNat)
  case atStart => exact ⟨0, by omega, rfl, grownBy_refl _ _⟩
  case round =>
    obtain ⟨i, hi, rfl, hgx⟩ := hrel
    by_cases hlt : i < L.length
    · by_cases h300 : i < 300
      · obtain ⟨c, u, he⟩ : ∃ c u, L[i] = (c, u) := ⟨_, _, rfl⟩
        obtain ⟨b, o, rfl, hb, x0, x1⟩ := pcells (HL.out.kept0 (gt KS.out hgx.out)) hlt he
        have h1 := pS_at HLk.out i hlt
        obtain ⟨d, h2, _, h3, h4⟩ := pC_at HLk.out i hlt
        rw [he] at h1 h2 h3 h4
        simp only at h1 h2 h3 h4
        have H1 : Hid (scalR Y c = some u) := (by rw [scalR_eq HYo.out, HYq.out]; exact h1 : scalR Y c = some u)
        have H2 : Hid (codeR Y u = some d) := (by rw [codeR_eq HYo.out, HYq.out]; exact h2 : codeR Y u = some d)
        have H4 : Hid (scalR Y d = some u) := (by rw [scalR_eq HYo.out, HYq.out]; exact h4 : scalR Y d = some u)
        have hlt' : (i : Int) < (L.length : Int) := by omega
        have hi0 : (0 : Int) ≤ (i : Int) := by omega
        have h300' : (i : Int) < 300 := by omega
        clear he h1 h2 h4
        go_wp2_with (first | (go_at_call_of 16 (Value.int IntKind.i64 c); refine (scalar_of _ _ Y c _ (HYS.out.kept0 hgx.out) p9 p10 hYm HYo (some u) H1).mono ?_; rintro e wa ⟨rfl, hga⟩; have y0 := hga.cell x0 (by simp); have y1 := hga.cell x1 (by simp)) | (go_at_call 18; refine (code_of _ _ Y u _ (HYS.out.kept0 (gt hgx.out hga)) p9 p10 hYm HYo (some d) H2).mono ?_; rintro e wb ⟨rfl, hgb⟩; have z0 := hgb.cell y0 (by simp); have z1 := hgb.cell y1 (by simp)) | (go_at_call_of 16 (Value.int IntKind.i64 d); refine (scalar_of _ _ Y d _ (HYS.out.kept0 (gt (gt hgx.out hga) hgb)) p9 p10 hYm HYo (some u) H4).mono ?_; rintro e wc ⟨rfl, hgc⟩; have q0 := hgc.cell z0 (by simp); have q1 := hgc.cell z1 (by simp)))
        go_roundw
        case rel => exact ⟨i + 1, by omega, by go_num, gt (gt (gt hgx.out hga) hgb) hgc⟩
        case measure => simp [intOf]; omega
      · have h300' : ¬ (i : Int) < 300 := by omega
        have hlt' : (i : Int) < (L.length : Int) := by omega
        go_wp2
        go_ret
        exact ⟨rfl, below_g (gt KS.out hgx.out)⟩
    · obtain rfl : i = L.length := by omega
      go_wp2
      go_ret
      exact ⟨rfl, below_g (gt KS.out hgx.out)⟩

set_option maxRecDepth 100000 in
set_option maxHeartbeats 8000000 in
theorem rback_00 (ao0 : Option Addr) (cap0 : Nat) (L : List Pr) (ao1 : Option Addr) (cap1 : Nat) (T : List Rg) (w : World) (hrd0 : PE.Rd w ao0 L) (hle0 : L.length ≤ cap0) (hcb0 : cap0 ≤ 140737488351232) (hrd1 : RE.Rd w ao1 T) (hle1 : T.length ≤ cap1) (hcb1 : cap1 ≤ 140737488351232)
    (F : Int) (hF : F ≠ 0) (hT : Hid (checkR T = F)) (E : Int) (hE0 : E ≠ 0) (hE : Hid (rightE L = E)) :
    Calls Try.prog 5 #[.slice ao0 L.length cap0, .slice ao1 T.length cap1] w fun e w' => e = .returned (.bool true) ∧ Below w.heap.size w w' := by
  have HL : Hid (PE.Rd w ao0 L) := hrd0
  have HT : Hid (RE.Rd w ao1 T) := hrd1
  clear hrd0 hrd1
  have hF1 : (F == 0) = false := by simpa using hF
  have hY : Hid (packR L = []) := (by unfold packR; rw [hE.out, if_neg hE0] : packR L = [])
  have hE1 : (E == 0) = false := by simpa using hE0
  go_enter Try.func5, Try.ntmps5
  go_upto_region 8 with (first | (go_at_call 20; refine (works_any _).mono ?_; rintro e w1 ⟨rfl, hg1⟩) | (go_at_call 13; refine (check_any _ _ T _ (HT.out.kept0 hg1) hle1 (by omega) F hT).mono ?_; rintro e w6 ⟨rfl, hg6⟩))
  have K6 : Hid (w.grownBy w6 none) := gt hg1 hg6
  clear hg1 hg6
  go_wp2_with (go_at_call 8; refine (pack_any _ _ L _ (HL.out.kept0 K6.out) hle0 (by omega) E hE [] hY).mono ?_; rintro e w7 ⟨ro7, rc7, rfl, ho7, hg7⟩)
  go_ret
  exact ⟨rfl, below_g (gt K6.out hg7)⟩

theorem rback_walk (ao0 : Option Addr) (cap0 : Nat) (L : List Pr) (ao1 : Option Addr) (cap1 : Nat) (T : List Rg) (w : World) (hrd0 : PE.Rd w ao0 L) (hle0 : L.length ≤ cap0) (hcb0 : cap0 * 16 ≤ 140737488351232) (hrd1 : RE.Rd w ao1 T) (hle1 : T.length ≤ cap1) (hcb1 : cap1 * 24 ≤ 140737488351232) :
    Calls Try.prog 5 #[.slice ao0 L.length cap0, .slice ao1 T.length cap1] w fun e w' => e = .returned (.bool true) ∧ Below w.heap.size w w' := by
  by_cases h1 : checkR T = 0
  · by_cases h2 : rightE L = 0
    · exact rback_11 ao0 cap0 L ao1 cap1 T w hrd0 hle0 (by omega) hrd1 hle1 (by omega) h1 h2
    · exact rback_10 ao0 cap0 L ao1 cap1 T w hrd0 hle0 (by omega) hrd1 hle1 (by omega) h1 _ h2 (Hid.mk' rfl)
  · by_cases h2 : rightE L = 0
    · exact rback_01 ao0 cap0 L ao1 cap1 T w hrd0 hle0 (by omega) hrd1 hle1 (by omega) _ h1 (Hid.mk' rfl) h2
    · exact rback_00 ao0 cap0 L ao1 cap1 T w hrd0 hle0 (by omega) hrd1 hle1 (by omega) _ h1 (Hid.mk' rfl) _ h2 (Hid.mk' rfl)
end Go.Proofs.Ytdeohnnepifjaaa.Rn
