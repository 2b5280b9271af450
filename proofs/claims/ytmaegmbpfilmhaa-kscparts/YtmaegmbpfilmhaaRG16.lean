/- KscBack: plain facts and the walk. -/
import Derived.Test.YtmaegmbpfilmhaaRE16
import Derived.Test.YtmaegmbpfilmhaaArgs
namespace Go.Proofs.Ytmaegmbpfilmhaa.C16
open Go.ChangeShapes Go.WideShapes Go.ChangeAt Go.RowKit Go.Proofs.Ytmaegmbpfilmhaa.Mem Go.Proofs.Ytmaegmbpfilmhaa.El Go.Proofs.Ytmaegmbpfilmhaa.Ru
set_option linter.unusedVariables false
set_option linter.unusedSimpArgs false

/-- The scalar at a scalar's place. -/
theorem scP_cell {k : Int} (hk : k ∈ kinds) {c : Nat} (hc : c < 94) : scP k ((c : Int) + 1) = if cellR k c = 65533 then none else some (cellR k c) := by
  have h : k ∈ kinds ∧ 1 ≤ (c : Int) + 1 ∧ (c : Int) + 1 ≤ 94 := ⟨hk, by omega, by omega⟩
  rw [scP, if_pos h, show ((c : Int) + 1 - 1).toNat = c by omega]
theorem rowR_at {k : Int} (hk : k ∈ kinds) {c : Nat} (hc : c < 94) : ∃ h : c < (rowR k).length, (rowR k)[c] = (cellR k c : Int) := by
  have h1 : c < (tab k).length := by rw [tab_len hk]; exact hc
  refine ⟨by rw [rowR, List.length_map]; exact h1, ?_⟩
  simp only [rowR, List.getElem_map]
  rw [cellR, List.getD_eq_getElem?_getD, List.getElem?_eq_getElem h1]
  rfl

set_option maxRecDepth 100000 in
set_option maxHeartbeats 2000000 in
theorem back_loop {P : World → Prop} (C : Con P) (r : Nat) (hr : r < 94) : Hid (∀ c : Nat, c < 94 →
    (Hid (∀ w, P w → Calls Try.prog 8 #[.int .i64 (1 + (r : Int)), .int .i64 ((c : Int) + 1)] w fun e w' => e = .returned (.tuple #[.int .i32 0, .bool false]) ∧ w.grownBy w' none) ∧ ((1 + (r : Int)) ∈ kinds → cellR (1 + (r : Int)) c = 65533)) ∨
    (∃ n A B : Nat, Hid (∀ w, P w → Calls Try.prog 8 #[.int .i64 (1 + (r : Int)), .int .i64 ((c : Int) + 1)] w fun e w' => e = .returned (.tuple #[.int .i32 (n : Int), .bool true]) ∧ w.grownBy w' none) ∧ (1 + (r : Int)) ∈ kinds ∧ cellR (1 + (r : Int)) c = n ∧ n ≠ 65533 ∧ n ≤ 65535 ∧
      Hid (∀ w, P w → Calls Try.prog 10 #[.int .i32 (n : Int)] w fun e w' => e = .returned (.tuple #[.int .i64 (A : Int), .int .i64 (B : Int), .bool true]) ∧ w.grownBy w' none) ∧ (A < r + 1 ∨ A = r + 1 ∧ B ≤ c + 1) ∧ A ≤ 94 ∧ B ≤ 94 ∧
      Hid (∀ w, P w → Calls Try.prog 8 #[.int .i64 (A : Int), .int .i64 (B : Int)] w fun e w' => e = .returned (.tuple #[.int .i32 (n : Int), .bool true]) ∧ w.grownBy w' none))) := Hid.mk' (by
  intro c hc
  have hk : I64 (1 + (r : Int)) := by unfold I64; omega
  have hc2 : I64 ((c : Int) + 1) := by unfold I64; omega
  have hrk : (1 + (r : Int)) = (r : Int) + 1 := by omega
  cases e : scP (1 + (r : Int)) ((c : Int) + 1) with
  | none =>
    refine .inl ⟨Hid.mk' (fun w hw => C.scalar _ hk _ hc2 w none (Hid.mk' e) hw), fun hin => ?_⟩
    rw [scP_cell hin hc] at e
    split at e
    · assumption
    · cases e
  | some n =>
    obtain ⟨s1, s2, s3, _, _, s4⟩ := scP_small e
    have e' := e
    rw [hrk] at e'
    obtain ⟨A, B, p1, p2⟩ := back_place hr hc e'
    obtain ⟨q1, q2, q3, q4, _, q5⟩ := place_back p1
    refine .inr ⟨n, A, B, Hid.mk' (fun w hw => C.scalar _ hk _ hc2 w (some n) (Hid.mk' e) hw), s3, ?_, s2, s1, Hid.mk' (fun w hw => C.place (n : Int) (by unfold I32; omega) w A B true (Hid.mk' p1) hw), p2, q2, q4, Hid.mk' (fun w hw => C.scalar _ (by unfold I64; omega) _ (by unfold I64; omega) w (some n) (Hid.mk' (by rw [q5, Int.toNat_natCast])) hw)⟩
    rw [show ((c : Int) + 1 - 1).toNat = c by omega] at s4
    exact s4)
theorem place_two {P : World → Prop} (C : Con P) (u : Int) (hu : I32 u) :
    (∃ A B : Nat, Hid (∀ w, P w → Calls Try.prog 10 #[.int .i32 u] w fun e w' => e = .returned (.tuple #[.int .i64 (A : Int), .int .i64 (B : Int), .bool false]) ∧ w.grownBy w' none)) ∨
    (∃ n A B : Nat, u = (n : Int) ∧ Hid (∀ w, P w → Calls Try.prog 10 #[.int .i32 (n : Int)] w fun e w' => e = .returned (.tuple #[.int .i64 (A : Int), .int .i64 (B : Int), .bool true]) ∧ w.grownBy w' none) ∧
      Hid (∀ w, P w → Calls Try.prog 8 #[.int .i64 (A : Int), .int .i64 (B : Int)] w fun e w' => e = .returned (.tuple #[.int .i32 (n : Int), .bool true]) ∧ w.grownBy w' none)) := by
  obtain ⟨⟨A, B, ok⟩, h⟩ : ∃ t, plT u = t := ⟨_, rfl⟩
  cases ok
  · exact .inl ⟨A, B, Hid.mk' (fun w hw => C.place u hu w A B false (Hid.mk' h) hw)⟩
  · obtain ⟨q1, q2, q3, q4, q0, q5⟩ := place_back h
    have e : u = ((u.toNat : Nat) : Int) := by omega
    refine .inr ⟨u.toNat, A, B, e, ?_, Hid.mk' (fun w hw => C.scalar _ (by unfold I64; omega) _ (by unfold I64; omega) w _ (Hid.mk' q5) hw)⟩
    rw [← e]
    exact Hid.mk' (fun w hw => C.place u hu w A B true (Hid.mk' h) hw)

set_option maxRecDepth 100000 in
set_option maxHeartbeats 2000000 in
theorem back_in_no {P : World → Prop} (C : Con P) (a : Int) (r : Nat) (hr : wrap64 ((IntKind.u64.wrap a).tmod 94) = (r : Int)) (hr94 : r < 94) (hin0 : (1 + (r : Int)) ∈ kinds) (u : Int) (A B : Nat) (a1 : Hid (∀ w, P w → Calls Try.prog 10 #[.int .i32 u] w fun e w' => e = .returned (.tuple #[.int .i64 (A : Int), .int .i64 (B : Int), .bool false]) ∧ w.grownBy w' none)) (w : World) (hw : P w) : Calls Try.prog 5 #[.int .i64 a, .int .i32 u] w fun e w' => e = .returned (.bool true) ∧ w.grownBy w' none := by
  have a0 := Hid.mk' (fun w hw => works_any C w hw)
  have K := Hid.mk' (fun (a b : World) (h : P a) (g : a.grownBy b none) => C.keep h g)
  have hL := back_loop C r hr94
  obtain ⟨F, hF⟩ : ∃ F, Hid (rowR (1 + (r : Int)) = F) := ⟨_, Hid.mk' rfl⟩
  have hFl : Hid (F.length = 94) := Hid.mk' (by rw [← hF.out, rowR, List.length_map, tab_len hin0])
  have hFc : Hid (∀ c (hc : c < 94), F[c]'(by rw [hFl.out]; exact hc) = (cellR (1 + (r : Int)) c : Int)) := Hid.mk' (fun c hc => by
    obtain ⟨h1, h2⟩ := rowR_at hin0 hc
    rw [← h2]
    simp only [hF.out])
  have a2 : Hid (∀ w, P w → Calls Try.prog 12 #[.int .i64 (1 + (r : Int))] w fun e w' => ∃ ro rc, e = .returned (.slice ro 94 rc) ∧ RuE.Own w' ro rc F ∧ w.grownBy w' none) := Hid.mk' (fun w hw => (C.row (1 + (r : Int)) (by unfold I64; omega) w F hF hw).mono (by
    rintro e w' ⟨ro, rc, rfl, h1, h2, _⟩
    rw [hFl.out]
    exact ⟨ro, rc, rfl, h1, h2⟩))
  have hq := Hid.mk' hw
  have hin := Hid.mk' hin0
  have hr' : (r : Int) < 94 := by omega
  clear hw C hF hin0
  go_enter Try.func5, Try.ntmps5
  go_upto_region 9 with (first
    | (go_at_call 15; refine (a0.out _ hq.out).mono ?_; rintro e w1 ⟨rfl, hg1, hp1⟩; have hq1 := Hid.mk' hp1; clear hp1)
    | (go_at_call 10; refine (a1.out _ hq1.out).mono ?_; rintro e w2 ⟨rfl, hg2⟩; have hq2 := Hid.mk' (K.out _ _ hq1.out hg2); have hG0 := Hid.mk' (gt hg1 hg2); have hq4 := hq2))
  clear a0 hg1 hg2
  go_wp2_with (go_at_call 12; refine (a2.out _ hq4.out).mono ?_; rintro e w5 ⟨ro, rc, rfl, ho5, hg5⟩; have hO5 := Hid.mk' ho5; have hG5 := Hid.mk' (gt hG0.out hg5); have hq5 := Hid.mk' (K.out _ _ hq4.out hg5); clear ho5)
  have hcap : 94 ≤ rc := by have := hO5.out.cap_le; rw [hFl.out] at this; exact this
  have hcm := hO5.out.cap_max
  clear hG0 hg5 a1
  go_loopw [11] (fun t11 wx => ∃ (c : Nat), c ≤ 94 ∧ t11 = .int .i64 ((c : Int) + 1) ∧ Hid (RuE.Own wx ro rc F) ∧ Hid (w.grownBy wx none) ∧ Hid (P wx)) (fun t11 _ => 95 - (intOf t11).toNat)
  case atStart => exact ⟨0, by omega, rfl, hO5, hG5, hq5⟩
  case round =>
    obtain ⟨c, hc, rfl, hO, hG, hP⟩ := hrel
    clear hO5 hG5 hq5
    by_cases hlt : c < 94
    · have hlt' : (c : Int) + 1 ≤ 94 := by omega
      obtain ⟨b, o, rfl, hb, x0⟩ := rucell hO.out.rd (show c < F.length by rw [hFl.out]; exact hlt)
      have hcv := hFc.out c hlt
      have hsub : (c : Int) + 1 - 1 = (c : Int) := by omega
      have hc0 : (0 : Int) ≤ (c : Int) := by omega
      have hc94 : (c : Int) < 94 := by omega
      have hlen : decide ((94 : Int) < (c : Int) + 1) = false := decide_eq_false (by omega)
      rcases hL.out c hlt with ⟨b1, h9⟩ | ⟨n, A, B, b1, _, h9, hn9, hn, b2, hAB, hA, hB, b3⟩
      · have h10 := h9 hin.out
        rw [hcv, h10] at x0
        simp only [Int.cast_ofNat_Int] at x0
        clear h9 hcv h10
        go_wp2_with (go_at_call 8; refine (b1.out _ hP.out).mono ?_; rintro e w6 ⟨rfl, hg6⟩; have x6 := hg6.cell x0 (by simp); clear x0)
        go_roundw
        case rel => exact ⟨c + 1, by omega, by go_num, Hid.mk' (hO.out.kept0 hg6), Hid.mk' (gt hG.out hg6), Hid.mk' (K.out _ _ hP.out hg6)⟩
        all_goals (simp [intOf]; omega)
      · rw [hcv, h9] at x0
        have hn9' : ((n : Int) != 65533) = true := by simp; omega
        have hn9'' : ((n : Int) == 65533) = false := by simp; omega
        have d1 : decide (1 + (r : Int) < (A : Int)) = false := decide_eq_false (by omega)
        have dn : ((n : Int) != (n : Int)) = false := by simp
        clear h9 hcv hn9
        rcases hAB with hA1 | ⟨hA1, hB1⟩
        · have d2 : ((A : Int) == 1 + (r : Int)) = false := by simp; omega
          go_upto_region 20 with (go_at_call 8; refine (b1.out _ hP.out).mono ?_; rintro e w6 ⟨rfl, hg6⟩; have x6 := hg6.cell x0 (by simp); clear x0; have hP6 := Hid.mk' (K.out _ _ hP.out hg6))
          go_wp2_with (first
            | (go_at_call 10; refine (b2.out _ hP6.out).mono ?_; rintro e w7 ⟨rfl, hg7⟩; have hP7 := Hid.mk' (K.out _ _ hP6.out hg7))
            | (go_at_call 8; refine (b3.out _ hP7.out).mono ?_; rintro e w8 ⟨rfl, hg8⟩; have hP8 := Hid.mk' (K.out _ _ hP7.out hg8)))
          go_roundw
          case rel => exact ⟨c + 1, by omega, by go_num, Hid.mk' (hO.out.kept0 (gt (gt hg6 hg7) hg8)), Hid.mk' (gt (gt (gt hG.out hg6) hg7) hg8), hP8⟩
          all_goals (simp [intOf]; omega)
        · have d2 : ((A : Int) == 1 + (r : Int)) = true := by simp; omega
          have d3 : decide ((c : Int) + 1 < (B : Int)) = false := decide_eq_false (by omega)
          clear hA1 hB1
          go_upto_region 20 with (go_at_call 8; refine (b1.out _ hP.out).mono ?_; rintro e w6 ⟨rfl, hg6⟩; have x6 := hg6.cell x0 (by simp); clear x0; have hP6 := Hid.mk' (K.out _ _ hP.out hg6))
          go_wp2_with (first
            | (go_at_call 10; refine (b2.out _ hP6.out).mono ?_; rintro e w7 ⟨rfl, hg7⟩; have hP7 := Hid.mk' (K.out _ _ hP6.out hg7))
            | (go_at_call 8; refine (b3.out _ hP7.out).mono ?_; rintro e w8 ⟨rfl, hg8⟩; have hP8 := Hid.mk' (K.out _ _ hP7.out hg8)))
          go_roundw
          case rel => exact ⟨c + 1, by omega, by go_num, Hid.mk' (hO.out.kept0 (gt (gt hg6 hg7) hg8)), Hid.mk' (gt (gt (gt hG.out hg6) hg7) hg8), hP8⟩
          all_goals (simp [intOf]; omega)
    · obtain rfl : c = 94 := by omega
      go_wp2
      go_ret
      exact ⟨rfl, hG.out⟩

set_option maxRecDepth 100000 in
set_option maxHeartbeats 2000000 in
theorem back_in_yes {P : World → Prop} (C : Con P) (a : Int) (r : Nat) (hr : wrap64 ((IntKind.u64.wrap a).tmod 94) = (r : Int)) (hr94 : r < 94) (hin0 : (1 + (r : Int)) ∈ kinds) (n A B : Nat) (a1 : Hid (∀ w, P w → Calls Try.prog 10 #[.int .i32 (n : Int)] w fun e w' => e = .returned (.tuple #[.int .i64 (A : Int), .int .i64 (B : Int), .bool true]) ∧ w.grownBy w' none)) (a1s : Hid (∀ w, P w → Calls Try.prog 8 #[.int .i64 (A : Int), .int .i64 (B : Int)] w fun e w' => e = .returned (.tuple #[.int .i32 (n : Int), .bool true]) ∧ w.grownBy w' none)) (w : World) (hw : P w) : Calls Try.prog 5 #[.int .i64 a, .int .i32 (n : Int)] w fun e w' => e = .returned (.bool true) ∧ w.grownBy w' none := by
  have a0 := Hid.mk' (fun w hw => works_any C w hw)
  have K := Hid.mk' (fun (a b : World) (h : P a) (g : a.grownBy b none) => C.keep h g)
  have hL := back_loop C r hr94
  obtain ⟨F, hF⟩ : ∃ F, Hid (rowR (1 + (r : Int)) = F) := ⟨_, Hid.mk' rfl⟩
  have hFl : Hid (F.length = 94) := Hid.mk' (by rw [← hF.out, rowR, List.length_map, tab_len hin0])
  have hFc : Hid (∀ c (hc : c < 94), F[c]'(by rw [hFl.out]; exact hc) = (cellR (1 + (r : Int)) c : Int)) := Hid.mk' (fun c hc => by
    obtain ⟨h1, h2⟩ := rowR_at hin0 hc
    rw [← h2]
    simp only [hF.out])
  have a2 : Hid (∀ w, P w → Calls Try.prog 12 #[.int .i64 (1 + (r : Int))] w fun e w' => ∃ ro rc, e = .returned (.slice ro 94 rc) ∧ RuE.Own w' ro rc F ∧ w.grownBy w' none) := Hid.mk' (fun w hw => (C.row (1 + (r : Int)) (by unfold I64; omega) w F hF hw).mono (by
    rintro e w' ⟨ro, rc, rfl, h1, h2, _⟩
    rw [hFl.out]
    exact ⟨ro, rc, rfl, h1, h2⟩))
  have hq := Hid.mk' hw
  have hin := Hid.mk' hin0
  have hr' : (r : Int) < 94 := by omega
  clear hw C hF hin0
  go_enter Try.func5, Try.ntmps5
  go_upto_region 9 with (first
    | (go_at_call 15; refine (a0.out _ hq.out).mono ?_; rintro e w1 ⟨rfl, hg1, hp1⟩; have hq1 := Hid.mk' hp1; clear hp1)
    | (go_at_call 10; refine (a1.out _ hq1.out).mono ?_; rintro e w2 ⟨rfl, hg2⟩; have hq2 := Hid.mk' (K.out _ _ hq1.out hg2))
    | (go_at_call 8; refine (a1s.out _ hq2.out).mono ?_; rintro e w3 ⟨rfl, hg3⟩; have hq4 := Hid.mk' (K.out _ _ hq2.out hg3); have hG0 := Hid.mk' (gt (gt hg1 hg2) hg3)))
  clear a0 hg1 hg2 hg3 a1s
  go_wp2_with (go_at_call 12; refine (a2.out _ hq4.out).mono ?_; rintro e w5 ⟨ro, rc, rfl, ho5, hg5⟩; have hO5 := Hid.mk' ho5; have hG5 := Hid.mk' (gt hG0.out hg5); have hq5 := Hid.mk' (K.out _ _ hq4.out hg5); clear ho5)
  have hcap : 94 ≤ rc := by have := hO5.out.cap_le; rw [hFl.out] at this; exact this
  have hcm := hO5.out.cap_max
  clear hG0 hg5 a1
  go_loopw [11] (fun t11 wx => ∃ (c : Nat), c ≤ 94 ∧ t11 = .int .i64 ((c : Int) + 1) ∧ Hid (RuE.Own wx ro rc F) ∧ Hid (w.grownBy wx none) ∧ Hid (P wx)) (fun t11 _ => 95 - (intOf t11).toNat)
  case atStart => exact ⟨0, by omega, rfl, hO5, hG5, hq5⟩
  case round =>
    obtain ⟨c, hc, rfl, hO, hG, hP⟩ := hrel
    clear hO5 hG5 hq5
    by_cases hlt : c < 94
    · have hlt' : (c : Int) + 1 ≤ 94 := by omega
      obtain ⟨b, o, rfl, hb, x0⟩ := rucell hO.out.rd (show c < F.length by rw [hFl.out]; exact hlt)
      have hcv := hFc.out c hlt
      have hsub : (c : Int) + 1 - 1 = (c : Int) := by omega
      have hc0 : (0 : Int) ≤ (c : Int) := by omega
      have hc94 : (c : Int) < 94 := by omega
      have hlen : decide ((94 : Int) < (c : Int) + 1) = false := decide_eq_false (by omega)
      rcases hL.out c hlt with ⟨b1, h9⟩ | ⟨n, A, B, b1, _, h9, hn9, hn, b2, hAB, hA, hB, b3⟩
      · have h10 := h9 hin.out
        rw [hcv, h10] at x0
        simp only [Int.cast_ofNat_Int] at x0
        clear h9 hcv h10
        go_wp2_with (go_at_call 8; refine (b1.out _ hP.out).mono ?_; rintro e w6 ⟨rfl, hg6⟩; have x6 := hg6.cell x0 (by simp); clear x0)
        go_roundw
        case rel => exact ⟨c + 1, by omega, by go_num, Hid.mk' (hO.out.kept0 hg6), Hid.mk' (gt hG.out hg6), Hid.mk' (K.out _ _ hP.out hg6)⟩
        all_goals (simp [intOf]; omega)
      · rw [hcv, h9] at x0
        have hn9' : ((n : Int) != 65533) = true := by simp; omega
        have hn9'' : ((n : Int) == 65533) = false := by simp; omega
        have d1 : decide (1 + (r : Int) < (A : Int)) = false := decide_eq_false (by omega)
        have dn : ((n : Int) != (n : Int)) = false := by simp
        clear h9 hcv hn9
        rcases hAB with hA1 | ⟨hA1, hB1⟩
        · have d2 : ((A : Int) == 1 + (r : Int)) = false := by simp; omega
          go_upto_region 20 with (go_at_call 8; refine (b1.out _ hP.out).mono ?_; rintro e w6 ⟨rfl, hg6⟩; have x6 := hg6.cell x0 (by simp); clear x0; have hP6 := Hid.mk' (K.out _ _ hP.out hg6))
          go_wp2_with (first
            | (go_at_call 10; refine (b2.out _ hP6.out).mono ?_; rintro e w7 ⟨rfl, hg7⟩; have hP7 := Hid.mk' (K.out _ _ hP6.out hg7))
            | (go_at_call 8; refine (b3.out _ hP7.out).mono ?_; rintro e w8 ⟨rfl, hg8⟩; have hP8 := Hid.mk' (K.out _ _ hP7.out hg8)))
          go_roundw
          case rel => exact ⟨c + 1, by omega, by go_num, Hid.mk' (hO.out.kept0 (gt (gt hg6 hg7) hg8)), Hid.mk' (gt (gt (gt hG.out hg6) hg7) hg8), hP8⟩
          all_goals (simp [intOf]; omega)
        · have d2 : ((A : Int) == 1 + (r : Int)) = true := by simp; omega
          have d3 : decide ((c : Int) + 1 < (B : Int)) = false := decide_eq_false (by omega)
          clear hA1 hB1
          go_upto_region 20 with (go_at_call 8; refine (b1.out _ hP.out).mono ?_; rintro e w6 ⟨rfl, hg6⟩; have x6 := hg6.cell x0 (by simp); clear x0; have hP6 := Hid.mk' (K.out _ _ hP.out hg6))
          go_wp2_with (first
            | (go_at_call 10; refine (b2.out _ hP6.out).mono ?_; rintro e w7 ⟨rfl, hg7⟩; have hP7 := Hid.mk' (K.out _ _ hP6.out hg7))
            | (go_at_call 8; refine (b3.out _ hP7.out).mono ?_; rintro e w8 ⟨rfl, hg8⟩; have hP8 := Hid.mk' (K.out _ _ hP7.out hg8)))
          go_roundw
          case rel => exact ⟨c + 1, by omega, by go_num, Hid.mk' (hO.out.kept0 (gt (gt hg6 hg7) hg8)), Hid.mk' (gt (gt (gt hG.out hg6) hg7) hg8), hP8⟩
          all_goals (simp [intOf]; omega)
    · obtain rfl : c = 94 := by omega
      go_wp2
      go_ret
      exact ⟨rfl, hG.out⟩

set_option maxRecDepth 100000 in
set_option maxHeartbeats 2000000 in
theorem back_out_no {P : World → Prop} (C : Con P) (a : Int) (r : Nat) (hr : wrap64 ((IntKind.u64.wrap a).tmod 94) = (r : Int)) (hr94 : r < 94) (hin0 : ¬ (1 + (r : Int)) ∈ kinds) (u : Int) (A B : Nat) (a1 : Hid (∀ w, P w → Calls Try.prog 10 #[.int .i32 u] w fun e w' => e = .returned (.tuple #[.int .i64 (A : Int), .int .i64 (B : Int), .bool false]) ∧ w.grownBy w' none)) (w : World) (hw : P w) : Calls Try.prog 5 #[.int .i64 a, .int .i32 u] w fun e w' => e = .returned (.bool true) ∧ w.grownBy w' none := by
  have a0 := Hid.mk' (fun w hw => works_any C w hw)
  have K := Hid.mk' (fun (a b : World) (h : P a) (g : a.grownBy b none) => C.keep h g)
  have hL := back_loop C r hr94
  obtain ⟨F, hF⟩ : ∃ F, Hid (rowR (1 + (r : Int)) = F) := ⟨_, Hid.mk' rfl⟩
  have hFl : Hid (F.length = 0) := Hid.mk' (by rw [← hF.out, rowR, List.length_map, tab_none hin0]; rfl)
  have a2 : Hid (∀ w, P w → Calls Try.prog 12 #[.int .i64 (1 + (r : Int))] w fun e w' => ∃ ro rc, e = .returned (.slice ro 0 rc) ∧ RuE.Own w' ro rc F ∧ w.grownBy w' none) := Hid.mk' (fun w hw => (C.row (1 + (r : Int)) (by unfold I64; omega) w F hF hw).mono (by
    rintro e w' ⟨ro, rc, rfl, h1, h2, _⟩
    rw [hFl.out]
    exact ⟨ro, rc, rfl, h1, h2⟩))
  have hq := Hid.mk' hw
  have hin := Hid.mk' hin0
  have hr' : (r : Int) < 94 := by omega
  clear hw C hF hin0
  go_enter Try.func5, Try.ntmps5
  go_upto_region 9 with (first
    | (go_at_call 15; refine (a0.out _ hq.out).mono ?_; rintro e w1 ⟨rfl, hg1, hp1⟩; have hq1 := Hid.mk' hp1; clear hp1)
    | (go_at_call 10; refine (a1.out _ hq1.out).mono ?_; rintro e w2 ⟨rfl, hg2⟩; have hq2 := Hid.mk' (K.out _ _ hq1.out hg2); have hG0 := Hid.mk' (gt hg1 hg2); have hq4 := hq2))
  clear a0 hg1 hg2
  go_wp2_with (go_at_call 12; refine (a2.out _ hq4.out).mono ?_; rintro e w5 ⟨ro, rc, rfl, ho5, hg5⟩; have hO5 := Hid.mk' ho5; have hG5 := Hid.mk' (gt hG0.out hg5); have hq5 := Hid.mk' (K.out _ _ hq4.out hg5); clear ho5)
  have hcap : 0 ≤ rc := by have := hO5.out.cap_le; rw [hFl.out] at this; exact this
  have hcm := hO5.out.cap_max
  clear hG0 hg5 a1
  go_loopw [11] (fun t11 wx => ∃ (c : Nat), c ≤ 94 ∧ t11 = .int .i64 ((c : Int) + 1) ∧ Hid (RuE.Own wx ro rc F) ∧ Hid (w.grownBy wx none) ∧ Hid (P wx)) (fun t11 _ => 95 - (intOf t11).toNat)
  case atStart => exact ⟨0, by omega, rfl, hO5, hG5, hq5⟩
  case round =>
    obtain ⟨c, hc, rfl, hO, hG, hP⟩ := hrel
    clear hO5 hG5 hq5
    by_cases hlt : c < 94
    · have hlt' : (c : Int) + 1 ≤ 94 := by omega
      have hlen : (0 : Int) < (c : Int) + 1 := by omega
      rcases hL.out c hlt with ⟨b1, _⟩ | ⟨n, A, B, _, h9, _⟩
      · go_wp2_with (go_at_call 8; refine (b1.out _ hP.out).mono ?_; rintro e w6 ⟨rfl, hg6⟩)
        go_roundw
        case rel => exact ⟨c + 1, by omega, by go_num, Hid.mk' (hO.out.kept0 hg6), Hid.mk' (gt hG.out hg6), Hid.mk' (K.out _ _ hP.out hg6)⟩
        all_goals (simp [intOf]; omega)
      · exact absurd h9 hin.out
    · obtain rfl : c = 94 := by omega
      go_wp2
      go_ret
      exact ⟨rfl, hG.out⟩

set_option maxRecDepth 100000 in
set_option maxHeartbeats 2000000 in
theorem back_out_yes {P : World → Prop} (C : Con P) (a : Int) (r : Nat) (hr : wrap64 ((IntKind.u64.wrap a).tmod 94) = (r : Int)) (hr94 : r < 94) (hin0 : ¬ (1 + (r : Int)) ∈ kinds) (n A B : Nat) (a1 : Hid (∀ w, P w → Calls Try.prog 10 #[.int .i32 (n : Int)] w fun e w' => e = .returned (.tuple #[.int .i64 (A : Int), .int .i64 (B : Int), .bool true]) ∧ w.grownBy w' none)) (a1s : Hid (∀ w, P w → Calls Try.prog 8 #[.int .i64 (A : Int), .int .i64 (B : Int)] w fun e w' => e = .returned (.tuple #[.int .i32 (n : Int), .bool true]) ∧ w.grownBy w' none)) (w : World) (hw : P w) : Calls Try.prog 5 #[.int .i64 a, .int .i32 (n : Int)] w fun e w' => e = .returned (.bool true) ∧ w.grownBy w' none := by
  have a0 := Hid.mk' (fun w hw => works_any C w hw)
  have K := Hid.mk' (fun (a b : World) (h : P a) (g : a.grownBy b none) => C.keep h g)
  have hL := back_loop C r hr94
  obtain ⟨F, hF⟩ : ∃ F, Hid (rowR (1 + (r : Int)) = F) := ⟨_, Hid.mk' rfl⟩
  have hFl : Hid (F.length = 0) := Hid.mk' (by rw [← hF.out, rowR, List.length_map, tab_none hin0]; rfl)
  have a2 : Hid (∀ w, P w → Calls Try.prog 12 #[.int .i64 (1 + (r : Int))] w fun e w' => ∃ ro rc, e = .returned (.slice ro 0 rc) ∧ RuE.Own w' ro rc F ∧ w.grownBy w' none) := Hid.mk' (fun w hw => (C.row (1 + (r : Int)) (by unfold I64; omega) w F hF hw).mono (by
    rintro e w' ⟨ro, rc, rfl, h1, h2, _⟩
    rw [hFl.out]
    exact ⟨ro, rc, rfl, h1, h2⟩))
  have hq := Hid.mk' hw
  have hin := Hid.mk' hin0
  have hr' : (r : Int) < 94 := by omega
  clear hw C hF hin0
  go_enter Try.func5, Try.ntmps5
  go_upto_region 9 with (first
    | (go_at_call 15; refine (a0.out _ hq.out).mono ?_; rintro e w1 ⟨rfl, hg1, hp1⟩; have hq1 := Hid.mk' hp1; clear hp1)
    | (go_at_call 10; refine (a1.out _ hq1.out).mono ?_; rintro e w2 ⟨rfl, hg2⟩; have hq2 := Hid.mk' (K.out _ _ hq1.out hg2))
    | (go_at_call 8; refine (a1s.out _ hq2.out).mono ?_; rintro e w3 ⟨rfl, hg3⟩; have hq4 := Hid.mk' (K.out _ _ hq2.out hg3); have hG0 := Hid.mk' (gt (gt hg1 hg2) hg3)))
  clear a0 hg1 hg2 hg3 a1s
  go_wp2_with (go_at_call 12; refine (a2.out _ hq4.out).mono ?_; rintro e w5 ⟨ro, rc, rfl, ho5, hg5⟩; have hO5 := Hid.mk' ho5; have hG5 := Hid.mk' (gt hG0.out hg5); have hq5 := Hid.mk' (K.out _ _ hq4.out hg5); clear ho5)
  have hcap : 0 ≤ rc := by have := hO5.out.cap_le; rw [hFl.out] at this; exact this
  have hcm := hO5.out.cap_max
  clear hG0 hg5 a1
  go_loopw [11] (fun t11 wx => ∃ (c : Nat), c ≤ 94 ∧ t11 = .int .i64 ((c : Int) + 1) ∧ Hid (RuE.Own wx ro rc F) ∧ Hid (w.grownBy wx none) ∧ Hid (P wx)) (fun t11 _ => 95 - (intOf t11).toNat)
  case atStart => exact ⟨0, by omega, rfl, hO5, hG5, hq5⟩
  case round =>
    obtain ⟨c, hc, rfl, hO, hG, hP⟩ := hrel
    clear hO5 hG5 hq5
    by_cases hlt : c < 94
    · have hlt' : (c : Int) + 1 ≤ 94 := by omega
      have hlen : (0 : Int) < (c : Int) + 1 := by omega
      rcases hL.out c hlt with ⟨b1, _⟩ | ⟨n, A, B, _, h9, _⟩
      · go_wp2_with (go_at_call 8; refine (b1.out _ hP.out).mono ?_; rintro e w6 ⟨rfl, hg6⟩)
        go_roundw
        case rel => exact ⟨c + 1, by omega, by go_num, Hid.mk' (hO.out.kept0 hg6), Hid.mk' (gt hG.out hg6), Hid.mk' (K.out _ _ hP.out hg6)⟩
        all_goals (simp [intOf]; omega)
      · exact absurd h9 hin.out
    · obtain rfl : c = 94 := by omega
      go_wp2
      go_ret
      exact ⟨rfl, hG.out⟩

theorem back_walk {P : World → Prop} (C : Con P) (a : Int) (u : Int) (hu : I32 u) (w : World) (hw : P w) : Calls Try.prog 5 #[.int .i64 a, .int .i32 u] w fun e w' => e = .returned (.bool true) ∧ w.grownBy w' none := by
  obtain ⟨r, hr, hr94⟩ := mod_fit a 94 (by omega) (by omega)
  by_cases hin : (1 + (r : Int)) ∈ kinds
  · rcases place_two C u hu with ⟨A, B, a1⟩ | ⟨n, A, B, rfl, a1, a2⟩
    · exact back_in_no C a r hr hr94 hin u A B a1 w hw
    · exact back_in_yes C a r hr hr94 hin n A B a1 a2 w hw
  · rcases place_two C u hu with ⟨A, B, a1⟩ | ⟨n, A, B, rfl, a1, a2⟩
    · exact back_out_no C a r hr hr94 hin u A B a1 w hw
    · exact back_out_yes C a r hr hr94 hin n A B a1 a2 w hw
end Go.Proofs.Ytmaegmbpfilmhaa.C16
