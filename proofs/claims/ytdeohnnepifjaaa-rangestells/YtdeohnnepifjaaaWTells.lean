/- RangesTells: a walk. -/
import Derived.Test.YtdeohnnepifjaaaRPairs
import Derived.Test.YtdeohnnepifjaaaRefFind
import Derived.Test.YtdeohnnepifjaaaSame
import Derived.Below
namespace Go.Proofs.Ytdeohnnepifjaaa.Rn
open Go.ChangeShapes Go.WideShapes Go.ChangeAt Go.RowKit Go.Proofs.Ytdeohnnepifjaaa.Mem Go.Proofs.Ytdeohnnepifjaaa.Ucs Go.Proofs.Ytdeohnnepifjaaa.El
set_option linter.unusedVariables false
set_option linter.unusedSimpArgs false

theorem below_gT {w w' : World} (h : w.grownBy w' none) : Below w.heap.size w w' := ⟨h.os, h.tape, h.output, h.size, fun k hk => h.block k hk (by simp)⟩
set_option maxRecDepth 100000 in
set_option maxHeartbeats 8000000 in
theorem tells_walk (ao : Option Addr) (cap : Nat) (L : List Rg) (c u : Int) (w : World) (hrd : RE.Rd w ao L) (hle : L.length ≤ cap) (hcb : cap * 24 ≤ 140737488351232) :
    Calls Try.prog 4 #[.slice ao L.length cap, .int .i64 c, .int .i32 u] w fun e w' => e = .returned (.bool true) ∧ Below w.heap.size w w' := by
  have HL : Hid (RE.Rd w ao L) := hrd
  have hcm : cap ≤ 5864062014634 := by omega
  clear hrd hcb
  obtain ⟨E, hE⟩ : ∃ E, Hid (checkR L = E) := ⟨_, (rfl : checkR L = checkR L)⟩
  obtain ⟨P, hP⟩ : ∃ P, Hid (pairsR L = P) := ⟨_, (rfl : pairsR L = pairsR L)⟩
  have hm : Hid (RE.Own (w.alloc (.cells #[] 44)) (some ⟨w.heap.size, 0, none⟩) 0 []) := own_made (E := RE) w
  by_cases hE0 : E = 0
  · subst hE0
    obtain ⟨k1, k2, k3⟩ := checkR_ok.1 hE.out
    have Hk : Hid (okFrom (-1) L = true) := k2
    have hPo : P = pairsOf L := by rw [← hP.out]; unfold pairsR; rw [if_pos hE.out]
    obtain ⟨C, hC⟩ : ∃ C, Hid (scalR L c = C) := ⟨_, (rfl : scalR L c = scalR L c)⟩
    obtain ⟨D, hD⟩ : ∃ D, Hid (codeR L u = D) := ⟨_, (rfl : codeR L u = codeR L u)⟩
    have hC2 : Hid (pS P c = C) := (by rw [hPo, ← scalR_eq k2]; exact hC.out : pS P c = C)
    have hD2 : Hid (pC P u = D) := (by rw [hPo, ← codeR_eq k2]; exact hD.out : pC P u = D)
    clear hPo k2 k3
    go_enter Try.func4, Try.ntmps4
    go_wp2_with (first | (at_builtin; refine wpList_range _ rfl _ _ rfl _ _ [] rfl hm.out _ rfl L (src_range (HL.out.alloc _) cap) (by simp; omega) L (by simp) ?_; intro ao' c' w1 ho1 hga hat; have hg1 := Hid.mk' (grownBy_new (World.grownBy_alloc w _ none) hga (by intro g' e; simp [blk] at e; omega)); have HO := Hid.mk' ho1.rd; have p1 := ho1.cap_le; have p2 := ho1.cap_max; clear ho1 hga hat) | (go_at_call 12; refine (checkRef_any _ _ L _ (HL.out.kept0 hg1.out) hle (by omega) 0 hE).mono ?_; rintro e w2 ⟨rfl, hg2⟩) | (go_at_call 13; refine (check_any _ _ L _ (HO.out.kept0 hg2) p1 p2 0 hE).mono ?_; rintro e w3 ⟨rfl, hg3⟩; have K3 := Hid.mk' (gt hg2 hg3); clear hg2 hg3) | (go_at_call 14; refine (pairsRef_any _ _ L _ (HL.out.kept0 (gt hg1.out K3.out)) hle (by omega) P hP).mono ?_; rintro e w4 ⟨ro4, rc4, rfl, ho4, hg4⟩; have HP4 := Hid.mk' ho4.rd; have p3 := ho4.cap_le; have p4 := ho4.cap_max; have K4 := Hid.mk' (gt K3.out hg4); clear ho4 hg4) | (go_at_call 15; refine (pairs_any _ _ L _ (HO.out.kept0 K4.out) p1 p2 P hP).mono ?_; rintro e w5 ⟨ro5, rc5, rfl, ho5, hg5⟩; have HP5 := Hid.mk' ho5.rd; have p5 := ho5.cap_le; have p6 := ho5.cap_max; have HP4b := Hid.mk' (HP4.out.kept0 hg5); have K5 := Hid.mk' (gt K4.out hg5); clear ho5 hg5) | (go_at_call 11; refine (samePairs_eq _ _ _ _ P _ HP5.out HP4b.out p5 p6 p3 p4).mono ?_; rintro e w6 ⟨rfl, hg6⟩; have HP6 := Hid.mk' (HP4b.out.kept0 hg6); have K6 := Hid.mk' (gt K5.out hg6); clear hg6) | (go_at_call 10; refine (same_eq _ _ _ _ L _ (HO.out.kept0 K6.out) (HL.out.kept0 (gt hg1.out K6.out)) p1 p2 hle (by omega)).mono ?_; rintro e w7 ⟨rfl, hg7⟩; have HP7 := Hid.mk' (HP6.out.kept0 hg7); have K7 := Hid.mk' (gt K6.out hg7); clear hg7) | (go_at_call 16; refine (scalar_of _ _ L c _ (HO.out.kept0 K7.out) p1 p2 k1 Hk C hC).mono ?_; rintro e w8 ⟨rfl, hg8⟩; have HP8 := Hid.mk' (HP7.out.kept0 hg8); have K8 := Hid.mk' (gt K7.out hg8); clear hg8) | (go_at_call 17; refine (refScalar_any _ _ P c _ HP8.out p3 p4 C hC2).mono ?_; rintro e w9 ⟨rfl, hg9⟩; have HP9 := Hid.mk' (HP8.out.kept0 hg9); have K9 := Hid.mk' (gt K8.out hg9); clear hg9) | (go_at_call 18; refine (code_of _ _ L u _ (HO.out.kept0 K9.out) p1 p2 k1 Hk D hD).mono ?_; rintro e wa ⟨rfl, hga⟩; have HPa := Hid.mk' (HP9.out.kept0 hga); have Ka := Hid.mk' (gt K9.out hga); clear hga) | (go_at_call 19; refine (refCode_any _ _ P u _ HPa.out p3 p4 D hD2).mono ?_; rintro e wb ⟨rfl, hgb⟩; have Kb := Hid.mk' (gt Ka.out hgb); clear hgb))
    go_ret
    refine ⟨rfl, below_gT ?_⟩
    exact gt hg1.out Kb.out
  · have hE1 : (E == 0) = false := by simpa using hE0
    go_enter Try.func4, Try.ntmps4
    go_wp2_with (first | (at_builtin; refine wpList_range _ rfl _ _ rfl _ _ [] rfl hm.out _ rfl L (src_range (HL.out.alloc _) cap) (by simp; omega) L (by simp) ?_; intro ao' c' w1 ho1 hga hat; have hg1 := Hid.mk' (grownBy_new (World.grownBy_alloc w _ none) hga (by intro g' e; simp [blk] at e; omega)); have HO := Hid.mk' ho1.rd; have p1 := ho1.cap_le; have p2 := ho1.cap_max; clear ho1 hga hat) | (go_at_call 12; refine (checkRef_any _ _ L _ (HL.out.kept0 hg1.out) hle (by omega) E hE).mono ?_; rintro e w2 ⟨rfl, hg2⟩) | (go_at_call 13; refine (check_any _ _ L _ (HO.out.kept0 hg2) p1 p2 E hE).mono ?_; rintro e w3 ⟨rfl, hg3⟩; have K3 := Hid.mk' (gt hg2 hg3); clear hg2 hg3) | (go_at_call 14; refine (pairsRef_any _ _ L _ (HL.out.kept0 (gt hg1.out K3.out)) hle (by omega) P hP).mono ?_; rintro e w4 ⟨ro4, rc4, rfl, ho4, hg4⟩; have HP4 := Hid.mk' ho4.rd; have p3 := ho4.cap_le; have p4 := ho4.cap_max; have K4 := Hid.mk' (gt K3.out hg4); clear ho4 hg4) | (go_at_call 15; refine (pairs_any _ _ L _ (HO.out.kept0 K4.out) p1 p2 P hP).mono ?_; rintro e w5 ⟨ro5, rc5, rfl, ho5, hg5⟩; have HP5 := Hid.mk' ho5.rd; have p5 := ho5.cap_le; have p6 := ho5.cap_max; have HP4b := Hid.mk' (HP4.out.kept0 hg5); have K5 := Hid.mk' (gt K4.out hg5); clear ho5 hg5) | (go_at_call 11; refine (samePairs_eq _ _ _ _ P _ HP5.out HP4b.out p5 p6 p3 p4).mono ?_; rintro e w6 ⟨rfl, hg6⟩; have K6 := Hid.mk' (gt K5.out hg6); clear hg6) | (go_at_call 10; refine (same_eq _ _ _ _ L _ (HO.out.kept0 K6.out) (HL.out.kept0 (gt hg1.out K6.out)) p1 p2 hle (by omega)).mono ?_; rintro e w7 ⟨rfl, hg7⟩; have K7 := Hid.mk' (gt K6.out hg7); clear hg7))
    go_ret
    refine ⟨rfl, below_gT ?_⟩
    exact gt hg1.out K7.out
end Go.Proofs.Ytdeohnnepifjaaa.Rn
