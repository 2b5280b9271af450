/- SjisAll: walks, by the lead. -/
import Derived.Test.YtkkdaoimnmghgaaFX18
namespace Go.Proofs.Ytkkdaoimnmghgaa.C18
open Go.ChangeShapes Go.WideShapes Go.ChangeAt Go.RowKit Go.Proofs.Ytkkdaoimnmghgaa.Mem Go.Proofs.Ytkkdaoimnmghgaa.Cb Go.Proofs.Ytkkdaoimnmghgaa.Sp
set_option linter.unusedVariables false
set_option linter.unusedSimpArgs false

set_option maxRecDepth 100000 in
set_option maxHeartbeats 2000000 in
theorem all_LA {P : World → Prop} (C : Con P) (x : Int) (a : Nat) (ha : a < 256) (h1 : 129 ≤ a) (h2 : a ≤ 159) (w : World) (hw : P w) : Calls Try.prog 6 #[.int .i64 x, .int .u8 (a : Int)] w fun e w' => e = .returned (.bool true) ∧ w.grownBy w' none := by
  obtain ⟨r, hr, hr94⟩ := mod_fit x 94 (by omega) (by omega)
  replace hr : wrap64 ((IntKind.u64.wrap x).tmod 94) = (r : Int) := hr
  have a0 := Hid.mk' (fun w hw => works_any C w hw)
  have K := Hid.mk' (fun (a b : World) (h : P a) (g : a.grownBy b none) => C.keep h g)
  have hq := Hid.mk' hw
  have hC := Hid.mk' C
  have hr0 : (r : Int) < 94 := by omega
  have hL : Hid (lead a = true) := Hid.mk' (by unfold lead; simp; omega)
  have f0 : decide (129 ≤ (a : Int)) = true := by simp; omega
  have f1 : decide ((a : Int) ≤ 159) = true := by simp; omega
  clear hw C h1 h2
  go_enter Try.func6, Try.ntmps6
  go_upto_region 4 with (go_at_call 17; refine (a0.out _ hq.out).mono ?_; rintro e w1 ⟨rfl, hg1, hp1⟩; have hq1 := Hid.mk' hp1; have hG1 := Hid.mk' hg1)
  clear hg1 hp1 a0 hq hr
  go_wp2
  go_loopw [5] (fun t5 wx => ∃ (c : Nat), c ≤ 94 ∧ t5 = .int .i64 ((c : Int) + 1) ∧ Hid (w.grownBy wx none) ∧ Hid (P wx)) (fun t5 _ => 95 - (intOf t5).toNat)
  case atStart => exact ⟨0, by omega, rfl, hG1, hq1⟩
  case round =>
    obtain ⟨c, hc, rfl, hG, hp⟩ := hrel
    by_cases hlt : c < 94
    · have hlt' : (c : Int) + 1 ≤ 94 := by omega
      have hpk : pkT (1 + (r : Int)) ((c : Int) + 1) = (ldN (r + 1), trN (r + 1) (c + 1), true) := by
        unfold pkT
        rw [if_pos (by unfold In2; omega), show (1 + (r : Int)).toNat = r + 1 by omega, show ((c : Int) + 1).toNat = c + 1 by omega]
      have b1 := Hid.mk' (fun w hw => hC.out.pack (1 + (r : Int)) ((c : Int) + 1) (by unfold I64; omega) (by unfold I64; omega) _ _ true (Hid.mk' hpk) w hw)
      have b2 : Hid (∀ w, P w → Calls Try.prog 15 #[.int .u8 (ldN (r + 1) : Int), .int .u8 (trN (r + 1) (c + 1) : Int)] w fun e w' => e = .returned (.tuple #[.int .i64 (1 + (r : Int)), .int .i64 ((c : Int) + 1), .bool true]) ∧ w.grownBy w' none) := Hid.mk' (fun w hw => by
        have := hC.out.unpack (ldN (r + 1)) (trN (r + 1) (c + 1)) (ld_is (by omega) (by omega)).2 (tr_is (by omega) (by omega)).2 _ _ true (Hid.mk' (up_of (r := r + 1) (c := c + 1) (by omega) (by omega) (by omega) (by omega))) w hw
        rw [show ((r + 1 : Nat) : Int) = 1 + (r : Int) by omega, show ((c + 1 : Nat) : Int) = (c : Int) + 1 by omega] at this
        exact this)
      generalize ldN (r + 1) = l at *
      generalize trN (r + 1) (c + 1) = t at *
      have hrr : ((1 + (r : Int)) != (1 + (r : Int))) = false := by simp
      have hcc : (((c : Int) + 1) != ((c : Int) + 1)) = false := by simp
      clear hpk
      go_wp2_with (first
        | (go_at_call 13; refine (b1.out _ hp.out).mono ?_; rintro e w2 ⟨rfl, hg2⟩; have hp2 := Hid.mk' (K.out _ _ hp.out hg2))
        | (go_at_call 15; refine (b2.out _ hp2.out).mono ?_; rintro e w3 ⟨rfl, hg3⟩))
      go_roundw
      case rel => exact ⟨c + 1, by omega, by go_num, Hid.mk' (gt hG.out (gt hg2 hg3)), Hid.mk' (K.out _ _ hp2.out hg3)⟩
      all_goals (simp [intOf]; omega)
    · have hlt' : ¬ (c : Int) + 1 ≤ 94 := by omega
      clear hlt
      go_wp2
      go_loopw [13] (fun t13 wx => ∃ (i : Nat), i ≤ 256 ∧ t13 = .int .i64 (i : Int) ∧ Hid (w.grownBy wx none) ∧ Hid (P wx)) (fun t13 _ => 256 - (intOf t13).toNat)
      case atStart => exact ⟨0, by omega, rfl, hG, hp⟩
      case round =>
        obtain ⟨i, hi, rfl, hG2, hp2⟩ := hrel
        by_cases hli : i < 256
        · have hli' : (i : Int) < 256 := by omega
          by_cases t1 : i < 64
          · have d0 : decide (64 ≤ (i : Int)) = false := by simp; omega
            have hup : upT a i = (0, 0, false) := by
              unfold upT
              rw [if_neg (fun h => by have h8 := h.1; have h9 := trail_iff.1 h.2; omega)]
            have b3 := Hid.mk' (fun w hw => hC.out.unpack a i ha (by omega) 0 0 false (Hid.mk' hup) w hw)
            simp only [Int.natCast_zero, Int.cast_ofNat_Int] at b3
            clear hup
            go_wp2_with (go_at_call 15; refine (b3.out _ hp2.out).mono ?_; rintro e w4 ⟨rfl, hg4⟩)
            go_roundw
            case rel => exact ⟨i + 1, by omega, by go_num, Hid.mk' (gt hG2.out hg4), Hid.mk' (K.out _ _ hp2.out hg4)⟩
            all_goals (simp [intOf]; omega)
          · by_cases t2 : 252 < i
            · have d0 : decide (64 ≤ (i : Int)) = true := by simp; omega
              have d1 : decide ((i : Int) ≤ 252) = false := by simp; omega
              have hup : upT a i = (0, 0, false) := by
                unfold upT
                rw [if_neg (fun h => by have h8 := h.1; have h9 := trail_iff.1 h.2; omega)]
              have b3 := Hid.mk' (fun w hw => hC.out.unpack a i ha (by omega) 0 0 false (Hid.mk' hup) w hw)
              simp only [Int.natCast_zero, Int.cast_ofNat_Int] at b3
              clear hup
              go_wp2_with (go_at_call 15; refine (b3.out _ hp2.out).mono ?_; rintro e w4 ⟨rfl, hg4⟩)
              go_roundw
              case rel => exact ⟨i + 1, by omega, by go_num, Hid.mk' (gt hG2.out hg4), Hid.mk' (K.out _ _ hp2.out hg4)⟩
              all_goals (simp [intOf]; omega)
            · by_cases t3 : i = 127
              · have d0 : decide (64 ≤ (i : Int)) = true := by simp; omega
                have d1 : decide ((i : Int) ≤ 252) = true := by simp; omega
                have d2 : ((i : Int) != 127) = false := by simp; omega
                have t30 := Hid.mk' t3
                clear t3
                have hup : upT a i = (0, 0, false) := by
                  unfold upT
                  rw [if_neg (fun h => by have h8 := h.1; have h9 := trail_iff.1 h.2; have h10 := t30.out; omega)]
                have b3 := Hid.mk' (fun w hw => hC.out.unpack a i ha (by omega) 0 0 false (Hid.mk' hup) w hw)
                simp only [Int.natCast_zero, Int.cast_ofNat_Int] at b3
                clear hup
                go_wp2_with (go_at_call 15; refine (b3.out _ hp2.out).mono ?_; rintro e w4 ⟨rfl, hg4⟩)
                go_roundw
                case rel => exact ⟨i + 1, by omega, by go_num, Hid.mk' (gt hG2.out hg4), Hid.mk' (K.out _ _ hp2.out hg4)⟩
                all_goals (simp [intOf]; omega)
              · have d0 : decide (64 ≤ (i : Int)) = true := by simp; omega
                have d1 : decide ((i : Int) ≤ 252) = true := by simp; omega
                have d2 : ((i : Int) != 127) = true := by simp; omega
                have ht : trail i = true := trail_iff.2 ⟨by omega, by omega, by omega⟩
                obtain ⟨a1, a2, a3, a4, a5, a6⟩ := of_up hL.out ht
                have hup : upT a i = (upR a i, upC i, true) := by
                  unfold upT
                  rw [if_pos ⟨hL.out, ht⟩]
                have b3 := Hid.mk' (fun w hw => hC.out.unpack a i ha (by omega) _ _ true (Hid.mk' hup) w hw)
                have hpk : pkT (upR a i : Int) (upC i : Int) = (a, i, true) := by
                  unfold pkT
                  rw [if_pos (by unfold In2; omega), Int.toNat_natCast, Int.toNat_natCast, a5, a6]
                have b4 := Hid.mk' (fun w hw => hC.out.pack (upR a i : Int) (upC i : Int) (by unfold I64; omega) (by unfold I64; omega) _ _ true (Hid.mk' hpk) w hw)
                generalize (upR a i : Int) = A at *
                generalize (upC i : Int) = D at *
                have haa : ((a : Int) != (a : Int)) = false := by simp
                have hii : ((i : Int) != (i : Int)) = false := by simp
                clear hup hpk a1 a2 a3 a4 a5 a6 ht
                go_wp2_with (first
                  | (go_at_call 15; refine (b3.out _ hp2.out).mono ?_; rintro e w4 ⟨rfl, hg4⟩; have hp4 := Hid.mk' (K.out _ _ hp2.out hg4))
                  | (go_at_call 13; refine (b4.out _ hp4.out).mono ?_; rintro e w5 ⟨rfl, hg5⟩))
                go_roundw
                case rel => exact ⟨i + 1, by omega, by go_num, Hid.mk' (gt hG2.out (gt hg4 hg5)), Hid.mk' (K.out _ _ hp4.out hg5)⟩
                all_goals (simp [intOf]; omega)
        · obtain rfl : i = 256 := by omega
          go_wp2_with fail
          go_ret
          exact ⟨rfl, hG2.out⟩
set_option maxRecDepth 100000 in
set_option maxHeartbeats 2000000 in
theorem all_LB {P : World → Prop} (C : Con P) (x : Int) (a : Nat) (ha : a < 256) (h1 : 224 ≤ a) (h2 : a ≤ 239) (w : World) (hw : P w) : Calls Try.prog 6 #[.int .i64 x, .int .u8 (a : Int)] w fun e w' => e = .returned (.bool true) ∧ w.grownBy w' none := by
  obtain ⟨r, hr, hr94⟩ := mod_fit x 94 (by omega) (by omega)
  replace hr : wrap64 ((IntKind.u64.wrap x).tmod 94) = (r : Int) := hr
  have a0 := Hid.mk' (fun w hw => works_any C w hw)
  have K := Hid.mk' (fun (a b : World) (h : P a) (g : a.grownBy b none) => C.keep h g)
  have hq := Hid.mk' hw
  have hC := Hid.mk' C
  have hr0 : (r : Int) < 94 := by omega
  have hL : Hid (lead a = true) := Hid.mk' (by unfold lead; simp; omega)
  have f0 : decide (129 ≤ (a : Int)) = true := by simp; omega
  have f1 : decide ((a : Int) ≤ 159) = false := by simp; omega
  have f2 : decide (224 ≤ (a : Int)) = true := by simp; omega
  have f3 : decide ((a : Int) ≤ 239) = true := by simp; omega
  clear hw C h1 h2
  go_enter Try.func6, Try.ntmps6
  go_upto_region 4 with (go_at_call 17; refine (a0.out _ hq.out).mono ?_; rintro e w1 ⟨rfl, hg1, hp1⟩; have hq1 := Hid.mk' hp1; have hG1 := Hid.mk' hg1)
  clear hg1 hp1 a0 hq hr
  go_wp2
  go_loopw [5] (fun t5 wx => ∃ (c : Nat), c ≤ 94 ∧ t5 = .int .i64 ((c : Int) + 1) ∧ Hid (w.grownBy wx none) ∧ Hid (P wx)) (fun t5 _ => 95 - (intOf t5).toNat)
  case atStart => exact ⟨0, by omega, rfl, hG1, hq1⟩
  case round =>
    obtain ⟨c, hc, rfl, hG, hp⟩ := hrel
    by_cases hlt : c < 94
    · have hlt' : (c : Int) + 1 ≤ 94 := by omega
      have hpk : pkT (1 + (r : Int)) ((c : Int) + 1) = (ldN (r + 1), trN (r + 1) (c + 1), true) := by
        unfold pkT
        rw [if_pos (by unfold In2; omega), show (1 + (r : Int)).toNat = r + 1 by omega, show ((c : Int) + 1).toNat = c + 1 by omega]
      have b1 := Hid.mk' (fun w hw => hC.out.pack (1 + (r : Int)) ((c : Int) + 1) (by unfold I64; omega) (by unfold I64; omega) _ _ true (Hid.mk' hpk) w hw)
      have b2 : Hid (∀ w, P w → Calls Try.prog 15 #[.int .u8 (ldN (r + 1) : Int), .int .u8 (trN (r + 1) (c + 1) : Int)] w fun e w' => e = .returned (.tuple #[.int .i64 (1 + (r : Int)), .int .i64 ((c : Int) + 1), .bool true]) ∧ w.grownBy w' none) := Hid.mk' (fun w hw => by
        have := hC.out.unpack (ldN (r + 1)) (trN (r + 1) (c + 1)) (ld_is (by omega) (by omega)).2 (tr_is (by omega) (by omega)).2 _ _ true (Hid.mk' (up_of (r := r + 1) (c := c + 1) (by omega) (by omega) (by omega) (by omega))) w hw
        rw [show ((r + 1 : Nat) : Int) = 1 + (r : Int) by omega, show ((c + 1 : Nat) : Int) = (c : Int) + 1 by omega] at this
        exact this)
      generalize ldN (r + 1) = l at *
      generalize trN (r + 1) (c + 1) = t at *
      have hrr : ((1 + (r : Int)) != (1 + (r : Int))) = false := by simp
      have hcc : (((c : Int) + 1) != ((c : Int) + 1)) = false := by simp
      clear hpk
      go_wp2_with (first
        | (go_at_call 13; refine (b1.out _ hp.out).mono ?_; rintro e w2 ⟨rfl, hg2⟩; have hp2 := Hid.mk' (K.out _ _ hp.out hg2))
        | (go_at_call 15; refine (b2.out _ hp2.out).mono ?_; rintro e w3 ⟨rfl, hg3⟩))
      go_roundw
      case rel => exact ⟨c + 1, by omega, by go_num, Hid.mk' (gt hG.out (gt hg2 hg3)), Hid.mk' (K.out _ _ hp2.out hg3)⟩
      all_goals (simp [intOf]; omega)
    · have hlt' : ¬ (c : Int) + 1 ≤ 94 := by omega
      clear hlt
      go_wp2
      go_loopw [13] (fun t13 wx => ∃ (i : Nat), i ≤ 256 ∧ t13 = .int .i64 (i : Int) ∧ Hid (w.grownBy wx none) ∧ Hid (P wx)) (fun t13 _ => 256 - (intOf t13).toNat)
      case atStart => exact ⟨0, by omega, rfl, hG, hp⟩
      case round =>
        obtain ⟨i, hi, rfl, hG2, hp2⟩ := hrel
        by_cases hli : i < 256
        · have hli' : (i : Int) < 256 := by omega
          by_cases t1 : i < 64
          · have d0 : decide (64 ≤ (i : Int)) = false := by simp; omega
            have hup : upT a i = (0, 0, false) := by
              unfold upT
              rw [if_neg (fun h => by have h8 := h.1; have h9 := trail_iff.1 h.2; omega)]
            have b3 := Hid.mk' (fun w hw => hC.out.unpack a i ha (by omega) 0 0 false (Hid.mk' hup) w hw)
            simp only [Int.natCast_zero, Int.cast_ofNat_Int] at b3
            clear hup
            go_wp2_with (go_at_call 15; refine (b3.out _ hp2.out).mono ?_; rintro e w4 ⟨rfl, hg4⟩)
            go_roundw
            case rel => exact ⟨i + 1, by omega, by go_num, Hid.mk' (gt hG2.out hg4), Hid.mk' (K.out _ _ hp2.out hg4)⟩
            all_goals (simp [intOf]; omega)
          · by_cases t2 : 252 < i
            · have d0 : decide (64 ≤ (i : Int)) = true := by simp; omega
              have d1 : decide ((i : Int) ≤ 252) = false := by simp; omega
              have hup : upT a i = (0, 0, false) := by
                unfold upT
                rw [if_neg (fun h => by have h8 := h.1; have h9 := trail_iff.1 h.2; omega)]
              have b3 := Hid.mk' (fun w hw => hC.out.unpack a i ha (by omega) 0 0 false (Hid.mk' hup) w hw)
              simp only [Int.natCast_zero, Int.cast_ofNat_Int] at b3
              clear hup
              go_wp2_with (go_at_call 15; refine (b3.out _ hp2.out).mono ?_; rintro e w4 ⟨rfl, hg4⟩)
              go_roundw
              case rel => exact ⟨i + 1, by omega, by go_num, Hid.mk' (gt hG2.out hg4), Hid.mk' (K.out _ _ hp2.out hg4)⟩
              all_goals (simp [intOf]; omega)
            · by_cases t3 : i = 127
              · have d0 : decide (64 ≤ (i : Int)) = true := by simp; omega
                have d1 : decide ((i : Int) ≤ 252) = true := by simp; omega
                have d2 : ((i : Int) != 127) = false := by simp; omega
                have t30 := Hid.mk' t3
                clear t3
                have hup : upT a i = (0, 0, false) := by
                  unfold upT
                  rw [if_neg (fun h => by have h8 := h.1; have h9 := trail_iff.1 h.2; have h10 := t30.out; omega)]
                have b3 := Hid.mk' (fun w hw => hC.out.unpack a i ha (by omega) 0 0 false (Hid.mk' hup) w hw)
                simp only [Int.natCast_zero, Int.cast_ofNat_Int] at b3
                clear hup
                go_wp2_with (go_at_call 15; refine (b3.out _ hp2.out).mono ?_; rintro e w4 ⟨rfl, hg4⟩)
                go_roundw
                case rel => exact ⟨i + 1, by omega, by go_num, Hid.mk' (gt hG2.out hg4), Hid.mk' (K.out _ _ hp2.out hg4)⟩
                all_goals (simp [intOf]; omega)
              · have d0 : decide (64 ≤ (i : Int)) = true := by simp; omega
                have d1 : decide ((i : Int) ≤ 252) = true := by simp; omega
                have d2 : ((i : Int) != 127) = true := by simp; omega
                have ht : trail i = true := trail_iff.2 ⟨by omega, by omega, by omega⟩
                obtain ⟨a1, a2, a3, a4, a5, a6⟩ := of_up hL.out ht
                have hup : upT a i = (upR a i, upC i, true) := by
                  unfold upT
                  rw [if_pos ⟨hL.out, ht⟩]
                have b3 := Hid.mk' (fun w hw => hC.out.unpack a i ha (by omega) _ _ true (Hid.mk' hup) w hw)
                have hpk : pkT (upR a i : Int) (upC i : Int) = (a, i, true) := by
                  unfold pkT
                  rw [if_pos (by unfold In2; omega), Int.toNat_natCast, Int.toNat_natCast, a5, a6]
                have b4 := Hid.mk' (fun w hw => hC.out.pack (upR a i : Int) (upC i : Int) (by unfold I64; omega) (by unfold I64; omega) _ _ true (Hid.mk' hpk) w hw)
                generalize (upR a i : Int) = A at *
                generalize (upC i : Int) = D at *
                have haa : ((a : Int) != (a : Int)) = false := by simp
                have hii : ((i : Int) != (i : Int)) = false := by simp
                clear hup hpk a1 a2 a3 a4 a5 a6 ht
                go_wp2_with (first
                  | (go_at_call 15; refine (b3.out _ hp2.out).mono ?_; rintro e w4 ⟨rfl, hg4⟩; have hp4 := Hid.mk' (K.out _ _ hp2.out hg4))
                  | (go_at_call 13; refine (b4.out _ hp4.out).mono ?_; rintro e w5 ⟨rfl, hg5⟩))
                go_roundw
                case rel => exact ⟨i + 1, by omega, by go_num, Hid.mk' (gt hG2.out (gt hg4 hg5)), Hid.mk' (K.out _ _ hp4.out hg5)⟩
                all_goals (simp [intOf]; omega)
        · obtain rfl : i = 256 := by omega
          go_wp2_with fail
          go_ret
          exact ⟨rfl, hG2.out⟩
end Go.Proofs.Ytkkdaoimnmghgaa.C18
