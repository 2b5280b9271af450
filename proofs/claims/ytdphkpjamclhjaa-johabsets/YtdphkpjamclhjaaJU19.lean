/- The document's Unpack and begins of layer 19: walks. -/
import Derived.Test.YtdphkpjamclhjaaJS19
namespace Go.Proofs.Ytdphkpjamclhjaa.C19
open Go.ChangeShapes Go.WideShapes Go.ChangeAt Go.RowKit Go.Proofs.Ytdphkpjamclhjaa.Mem Go.Proofs.Ytdphkpjamclhjaa.Cb Go.Proofs.Ytdphkpjamclhjaa.Sp
set_option linter.unusedVariables false
set_option linter.unusedSimpArgs false

set_option maxRecDepth 100000 in
set_option maxHeartbeats 1000000 in
theorem up_low (c : Int) (h : c < 32768) (w : World) : Calls Try.prog 16 #[.int .i64 c] w fun e w' => e = .returned (.tuple #[.int .i64 0, .int .i64 0, .int .i64 0, .bool false]) ∧ w.grownBy w' none := by
  have d1 : decide (c < 32768) = true := by simpa using h
  go_enter Try.func16, Try.ntmps16
  go_wp2
  refine bodyPost_ret (v := .tuple #[.int .i64 0, .int .i64 0, .int .i64 0, .bool false]) (by simp [results, Try.results16, go_sem]) rfl ⟨rfl, ?_⟩
  exact grownBy_refl _ _
set_option maxRecDepth 100000 in
set_option maxHeartbeats 1000000 in
theorem up_high (c : Int) (h : 65535 < c) (w : World) : Calls Try.prog 16 #[.int .i64 c] w fun e w' => e = .returned (.tuple #[.int .i64 0, .int .i64 0, .int .i64 0, .bool false]) ∧ w.grownBy w' none := by
  have d1 : decide (c < 32768) = false := by simp; omega
  have d2 : decide (65535 < c) = true := by simpa using h
  go_enter Try.func16, Try.ntmps16
  go_wp2
  refine bodyPost_ret (v := .tuple #[.int .i64 0, .int .i64 0, .int .i64 0, .bool false]) (by simp [results, Try.results16, go_sem]) rfl ⟨rfl, ?_⟩
  exact grownBy_refl _ _
theorem place_mid (n b : Nat) (w : World) (h : CA w b 3 (rowI mids)) (p : Int) (hp : Hid (plc mids n = p)) : Calls Try.prog 31 #[.slice (some ⟨b, 0, none⟩) 21 21, .int .i64 (n : Int)] w fun e w' => e = .returned (.int .i64 p) ∧ w.grownBy w' none := place_any mids (by decide) n b w h p hp
theorem place_lst (n b : Nat) (w : World) (h : CA w b 3 (rowI lsts)) (p : Int) (hp : Hid (plc lsts n = p)) : Calls Try.prog 31 #[.slice (some ⟨b, 0, none⟩) 28 28, .int .i64 (n : Int)] w fun e w' => e = .returned (.int .i64 p) ∧ w.grownBy w' none := place_any lsts (by decide) n b w h p hp
set_option maxRecDepth 100000 in
set_option maxHeartbeats 1000000 in
theorem up_yes (c : Int) (n q1 q2 q3 q4 : Nat) (hc1 : 32768 ≤ c) (hc2 : c ≤ 65535) (hn : c - 32768 = (n : Int)) (e1 : (n : Int).tdiv 1024 = (q1 : Int)) (A Bv Lv : Int) (e2 : (q1 : Int) - 2 = A) (e3 : (n : Int).tdiv 32 = (q2 : Int)) (e4 : (q2 : Int).tmod 32 = (q3 : Int)) (e5 : (n : Int).tmod 32 = (q4 : Int)) (hB : Hid (plc mids q3 = Bv)) (hL : Hid (plc lsts q4 = Lv)) (hi : C16.In3 A Bv Lv) (w : World) : Calls Try.prog 16 #[.int .i64 c] w fun e w' => e = .returned (.tuple #[.int .i64 A, .int .i64 Bv, .int .i64 Lv, .bool true]) ∧ w.grownBy w' none := by
  have a0 : Hid (∀ w, Calls Try.prog 21 #[.int .i64 A, .int .i64 Bv, .int .i64 Lv] w fun e w' => e = .returned (.tuple #[.int .i32 (C16.syV A Bv Lv), .bool true]) ∧ w.grownBy w' none) := Hid.mk' (fun w => (C16.refSyl_yes A Bv Lv hi w).mono (fun e w' h => ⟨h.1, by rw [h.2]; exact grownBy_refl _ _⟩))
  have d1 : decide (c < 32768) = false := by simp; omega
  have d2 : decide (65535 < c) = false := by simp; omega
  have hn2 : (n : Int) ≤ 32767 := by omega
  have hq1 : (q1 : Int) ≤ 32767 := by rw [← e1, Int.tdiv_eq_ediv_of_nonneg (by omega)]; omega
  have hq2 : (q2 : Int) ≤ 32767 := by rw [← e3, Int.tdiv_eq_ediv_of_nonneg (by omega)]; omega
  have hq3 : (q3 : Int) ≤ 31 := by rw [← e4, Int.tmod_eq_emod_of_nonneg (by omega)]; omega
  have hq4 : (q4 : Int) ≤ 31 := by rw [← e5, Int.tmod_eq_emod_of_nonneg (by omega)]; omega
  have hA1 : -2 ≤ A := by omega
  have hA2 : A ≤ 32765 := by omega
  have hA3 : IntKind.i64.wrap A = A := by rw [IntKind.wrap_i64]; omega
  clear hi
  go_enter Try.func16, Try.ntmps16
  go_wp2_with (first
    | (go_at_call 28; refine (middles_any _).mono ?_; rintro e w2 ⟨rfl, hm2, hg2⟩)
    | (go_at_call 29; refine (lasts_any _).mono ?_; rintro e w4 ⟨rfl, hl4, hg4⟩)
    | (go_at_call_of 31 (Value.slice (some ⟨w.heap.size, 0, none⟩) 21 21); refine (place_mid q3 _ _ hm2 Bv hB).mono ?_; rintro e w3 ⟨rfl, hg3⟩)
    | (go_at_call_of 31 (Value.slice (some ⟨w3.heap.size, 0, none⟩) 28 28); refine (place_lst q4 _ _ hl4 Lv hL).mono ?_; rintro e w5 ⟨rfl, hg5⟩)
    | (go_at_call 21; refine (a0.out _).mono ?_; rintro e w6 ⟨rfl, hg6⟩))
  refine bodyPost_ret (v := .tuple #[.int .i64 A, .int .i64 Bv, .int .i64 Lv, .bool true]) (by simp [results, Try.results16, go_sem]) rfl ⟨rfl, ?_⟩
  exact gt (gt (gt (gt hg2 hg3) hg4) hg5) hg6
set_option maxRecDepth 100000 in
set_option maxHeartbeats 1000000 in
theorem up_not (c : Int) (n q1 q2 q3 q4 : Nat) (hc1 : 32768 ≤ c) (hc2 : c ≤ 65535) (hn : c - 32768 = (n : Int)) (e1 : (n : Int).tdiv 1024 = (q1 : Int)) (A Bv Lv : Int) (e2 : (q1 : Int) - 2 = A) (e3 : (n : Int).tdiv 32 = (q2 : Int)) (e4 : (q2 : Int).tmod 32 = (q3 : Int)) (e5 : (n : Int).tmod 32 = (q4 : Int)) (hB : Hid (plc mids q3 = Bv)) (hL : Hid (plc lsts q4 = Lv)) (hi : ¬ C16.In3 A Bv Lv) (w : World) : Calls Try.prog 16 #[.int .i64 c] w fun e w' => e = .returned (.tuple #[.int .i64 0, .int .i64 0, .int .i64 0, .bool false]) ∧ w.grownBy w' none := by
  have a0 : Hid (∀ w, Calls Try.prog 21 #[.int .i64 A, .int .i64 Bv, .int .i64 Lv] w fun e w' => e = .returned (.tuple #[.int .i32 0, .bool false]) ∧ w.grownBy w' none) := Hid.mk' (fun w => (C16.refSyl_no A Bv Lv hi w).mono (fun e w' h => ⟨h.1, by rw [h.2]; exact grownBy_refl _ _⟩))
  have d1 : decide (c < 32768) = false := by simp; omega
  have d2 : decide (65535 < c) = false := by simp; omega
  have hn2 : (n : Int) ≤ 32767 := by omega
  have hq1 : (q1 : Int) ≤ 32767 := by rw [← e1, Int.tdiv_eq_ediv_of_nonneg (by omega)]; omega
  have hq2 : (q2 : Int) ≤ 32767 := by rw [← e3, Int.tdiv_eq_ediv_of_nonneg (by omega)]; omega
  have hq3 : (q3 : Int) ≤ 31 := by rw [← e4, Int.tmod_eq_emod_of_nonneg (by omega)]; omega
  have hq4 : (q4 : Int) ≤ 31 := by rw [← e5, Int.tmod_eq_emod_of_nonneg (by omega)]; omega
  have hA1 : -2 ≤ A := by omega
  have hA2 : A ≤ 32765 := by omega
  have hA3 : IntKind.i64.wrap A = A := by rw [IntKind.wrap_i64]; omega
  clear hi
  go_enter Try.func16, Try.ntmps16
  go_wp2_with (first
    | (go_at_call 28; refine (middles_any _).mono ?_; rintro e w2 ⟨rfl, hm2, hg2⟩)
    | (go_at_call 29; refine (lasts_any _).mono ?_; rintro e w4 ⟨rfl, hl4, hg4⟩)
    | (go_at_call_of 31 (Value.slice (some ⟨w.heap.size, 0, none⟩) 21 21); refine (place_mid q3 _ _ hm2 Bv hB).mono ?_; rintro e w3 ⟨rfl, hg3⟩)
    | (go_at_call_of 31 (Value.slice (some ⟨w3.heap.size, 0, none⟩) 28 28); refine (place_lst q4 _ _ hl4 Lv hL).mono ?_; rintro e w5 ⟨rfl, hg5⟩)
    | (go_at_call 21; refine (a0.out _).mono ?_; rintro e w6 ⟨rfl, hg6⟩))
  refine bodyPost_ret (v := .tuple #[.int .i64 0, .int .i64 0, .int .i64 0, .bool false]) (by simp [results, Try.results16, go_sem]) rfl ⟨rfl, ?_⟩
  exact gt (gt (gt (gt hg2 hg3) hg4) hg5) hg6
theorem unpackRef (c : Int) (x y z : Int) (ok : Bool) (hU : Hid (upT c = (x, y, z, ok))) (w : World) : Calls Try.prog 16 #[.int .i64 c] w fun e w' => e = .returned (.tuple #[.int .i64 x, .int .i64 y, .int .i64 z, .bool ok]) ∧ w.grownBy w' none := by
  have h := hU.out
  unfold upT at h
  by_cases h1 : 32768 ≤ c ∧ c ≤ 65535
  · rw [if_pos h1] at h
    obtain ⟨n, hn⟩ : ∃ n : Nat, c - 32768 = (n : Int) := ⟨(c - 32768).toNat, by omega⟩
    rw [hn, Int.toNat_natCast] at h
    have e1 : (n : Int).tdiv 1024 = ((n / 1024 : Nat) : Int) := by rw [Int.tdiv_eq_ediv_of_nonneg (by omega)]; omega
    have e3 : (n : Int).tdiv 32 = ((n / 32 : Nat) : Int) := by rw [Int.tdiv_eq_ediv_of_nonneg (by omega)]; omega
    have e4 : ((n / 32 : Nat) : Int).tmod 32 = ((n / 32 % 32 : Nat) : Int) := by rw [Int.tmod_eq_emod_of_nonneg (by omega)]; omega
    have e5 : (n : Int).tmod 32 = ((n % 32 : Nat) : Int) := by rw [Int.tmod_eq_emod_of_nonneg (by omega)]; omega
    by_cases hi : C16.In3 (upA n) (upB n) (upL n)
    · rw [if_pos hi] at h
      simp only [Prod.mk.injEq] at h
      obtain ⟨rfl, rfl, rfl, rfl⟩ := h
      exact up_yes c n _ _ _ _ h1.1 h1.2 hn e1 _ _ _ rfl e3 e4 e5 (Hid.mk' rfl) (Hid.mk' rfl) hi w
    · rw [if_neg hi] at h
      simp only [Prod.mk.injEq] at h
      obtain ⟨rfl, rfl, rfl, rfl⟩ := h
      exact up_not c n _ _ _ _ h1.1 h1.2 hn e1 _ _ _ rfl e3 e4 e5 (Hid.mk' rfl) (Hid.mk' rfl) hi w
  · rw [if_neg h1] at h
    simp only [Prod.mk.injEq] at h
    obtain ⟨rfl, rfl, rfl, rfl⟩ := h
    by_cases h2 : c < 32768
    · exact up_low c h2 w
    · exact up_high c (by omega) w
set_option maxRecDepth 100000 in
set_option maxHeartbeats 1000000 in
theorem begins_any (b : Nat) (hb : b < 256) (g : Bool) (hg : Hid (bgR b = g)) (w : World) : Calls Try.prog 20 #[.int .u8 (b : Int)] w fun e w' => e = .returned (.bool g) ∧ w.grownBy w' none := by
  have hb' : (b : Int) < 256 := by omega
  obtain ⟨B, hB⟩ : ∃ B : Nat, (b : Int) * 256 = (B : Int) := ⟨b * 256, by omega⟩
  have hBN : Hid (b * 256 = B) := Hid.mk' (by omega)
  have hB2 : (B : Int) ≤ 65280 := by omega
  go_enter Try.func20, Try.ntmps20
  go_wp2
  go_loopw [3] (fun t3 wx => ∃ (i : Nat), i ≤ 256 ∧ t3 = .int .i64 (i : Int) ∧ Hid (∀ j, j < i → (upT ((b * 256 + j : Nat) : Int)).2.2.2 = false) ∧ Hid (w.grownBy wx none)) (fun t3 _ => 256 - (intOf t3).toNat)
  case atStart => exact ⟨0, by omega, rfl, Hid.mk' (by omega), Hid.mk' (grownBy_refl _ _)⟩
  case round =>
    obtain ⟨i, hi, rfl, hn, hG⟩ := hrel
    by_cases hlt : i < 256
    · have hlt' : (i : Int) < 256 := by omega
      obtain ⟨X, hX⟩ : ∃ X : Nat, (B : Int) + (i : Int) = (X : Int) := ⟨B + i, by omega⟩
      have hXN : Hid (b * 256 + i = X) := Hid.mk' (by have := hBN.out; omega)
      obtain ⟨⟨x, y, z, ok⟩, hU⟩ : ∃ p, upT (X : Int) = p := ⟨_, rfl⟩
      have a1 := Hid.mk' (fun w => unpackRef (X : Int) x y z ok (Hid.mk' hU) w)
      have hU0 := Hid.mk' hU
      clear hU
      cases ok with
      | true =>
        have : g = true := by rw [← hg.out]; exact bg_of hlt (by rw [hXN.out, hU0.out])
        subst this
        clear hg hn hXN
        go_wp2_with (go_at_call 16; refine (a1.out _).mono ?_; rintro e w1 ⟨rfl, hg1⟩)
        go_ret
        exact ⟨rfl, gt hG.out hg1⟩
      | false =>
        go_wp2_with (go_at_call 16; refine (a1.out _).mono ?_; rintro e w1 ⟨rfl, hg1⟩)
        go_roundw
        case rel => exact ⟨i + 1, by omega, by go_num, Hid.mk' (fun j hj => by
          by_cases e : j = i
          · subst e; rw [hXN.out, hU0.out]
          · exact hn.out j (by omega)), Hid.mk' (gt hG.out hg1)⟩
        all_goals (simp [intOf]; omega)
    · obtain rfl : i = 256 := by omega
      have : g = false := by
        rw [← hg.out, bgR, List.any_eq_false]
        intro j hj
        rw [hn.out j (List.mem_range.1 hj)]
        simp
      subst this
      clear hg hn
      go_wp2_with fail
      go_ret
      exact ⟨rfl, hG.out⟩
end Go.Proofs.Ytdphkpjamclhjaa.C19
