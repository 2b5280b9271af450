/- EbcdicBack: the walk. -/
import Derived.Test.YtliaadlanpfjbaaWPl12
namespace Go.Proofs.Ytliaadlanpfjbaa.C12
open Go.ChangeShapes Go.WideShapes Go.ChangeAt Go.RowKit Go.Proofs.Ytliaadlanpfjbaa.Mem Go.Proofs.Ytliaadlanpfjbaa.El Go.Proofs.Ytliaadlanpfjbaa.Ru
set_option linter.unusedVariables false
set_option linter.unusedSimpArgs false

theorem scI_small {k : Int} {b u : Nat} (hb : b < 256) (h : scI k b = some u) : u ≤ 65533 := by
  obtain ⟨hk, ha, h9⟩ := scI_some h
  rw [← ha, atR, List.getD_eq_getElem?_getD]
  cases e : (tab k)[b]? with
  | none => simp
  | some x => exact tab_small x (List.mem_of_getElem? e)

/-- What a round of the law's loop finds. -/
theorem round_of {P : World → Prop} (C : Con P) {k : Int} (hk : I64 k) (i : Nat) (hi : i < 256) :
    (∃ x : Nat, Hid (∀ w, P w → Calls Try.prog 8 #[.int .i64 k, .int .u8 (i : Int)] w fun e w' => e = .returned (.tuple #[.int .i32 (x : Int), .bool false]) ∧ w.grownBy w' none)) ∨
    (∃ v c : Nat, Hid (∀ w, P w → Calls Try.prog 8 #[.int .i64 k, .int .u8 (i : Int)] w fun e w' => e = .returned (.tuple #[.int .i32 (v : Int), .bool true]) ∧ w.grownBy w' none) ∧
      Hid (∀ w, P w → Calls Try.prog 10 #[.int .i64 k, .int .i32 (v : Int)] w fun e w' => e = .returned (.tuple #[.int .u8 (c : Int), .bool true]) ∧ w.grownBy w' none) ∧ c ≤ i ∧
      Hid (∀ w, P w → Calls Try.prog 8 #[.int .i64 k, .int .u8 (c : Int)] w fun e w' => e = .returned (.tuple #[.int .i32 (v : Int), .bool true]) ∧ w.grownBy w' none)) := by
  cases e : scI k i with
  | none => exact .inl ⟨0, Hid.mk' (fun w hw => C.scalar k hk i hi w none (Hid.mk' e) hw)⟩
  | some v =>
    obtain ⟨c, h1, h2, h3⟩ := scI_back hi e
    have hv := scI_small hi e
    exact .inr ⟨v, c, Hid.mk' (fun w hw => C.scalar k hk i hi w (some v) (Hid.mk' e) hw), Hid.mk' (fun w hw => C.byte k hk (v : Int) (by unfold I32; omega) w (some c) (Hid.mk' h1) hw), h2, Hid.mk' (fun w hw => C.scalar k hk c (by omega) w (some v) (Hid.mk' h3) hw)⟩
theorem byte_of {P : World → Prop} (C : Con P) {k : Int} (hk : I64 k) (u : Int) (hu : I32 u) :
    (∃ x : Nat, Hid (∀ w, P w → Calls Try.prog 10 #[.int .i64 k, .int .i32 u] w fun e w' => e = .returned (.tuple #[.int .u8 (x : Int), .bool false]) ∧ w.grownBy w' none)) ∨
    (∃ v c : Nat, u = (v : Int) ∧ Hid (∀ w, P w → Calls Try.prog 10 #[.int .i64 k, .int .i32 (v : Int)] w fun e w' => e = .returned (.tuple #[.int .u8 (c : Int), .bool true]) ∧ w.grownBy w' none) ∧ c < 256 ∧
      Hid (∀ w, P w → Calls Try.prog 8 #[.int .i64 k, .int .u8 (c : Int)] w fun e w' => e = .returned (.tuple #[.int .i32 (v : Int), .bool true]) ∧ w.grownBy w' none)) := by
  cases e : byI k u with
  | none => exact .inl ⟨0, Hid.mk' (fun w hw => C.byte k hk u hu w none (Hid.mk' e) hw)⟩
  | some c =>
    obtain ⟨h1, h2, h3⟩ := byI_back e
    have e2 : u = ((u.toNat : Nat) : Int) := by omega
    exact .inr ⟨u.toNat, c, e2, Hid.mk' (fun w hw => C.byte k hk _ (by rw [← e2]; exact hu) w (some c) (Hid.mk' (by rw [← e2]; exact e)) hw), h1, Hid.mk' (fun w hw => C.scalar k hk c h1 w _ (Hid.mk' h3) hw)⟩

set_option maxRecDepth 100000 in
set_option maxHeartbeats 1000000 in
theorem back_walk {P : World → Prop} (C : Con P) (a : Int) (u : Int) (hu : I32 u) (w : World) (hw : P w) : Calls Try.prog 5 #[.int .i64 a, .int .i32 u] w fun e w' => e = .returned (.bool true) ∧ w.grownBy w' none := by
  obtain ⟨r, hr0, hr15⟩ := mod_fit a 3 (by omega) (by omega)
  have hr : wrap64 ((IntKind.u64.wrap a).tmod 3) = (r : Int) := hr0
  clear hr0
  obtain ⟨k, hkr, hkm, hk⟩ := kinds_at r hr15
  have a0 := Hid.mk' (fun w hw => works_any C w hw)
  have K := Hid.mk' (fun (a b : World) (h : P a) (g : a.grownBy b none) => C.keep h g)
  have hB := byte_of C hk u hu
  have hR := Hid.mk' (fun i hi => round_of C hk i hi)
  have hq := Hid.mk' hw
  have hr15' : (r : Int) < 3 := by omega
  clear hk hkm hw C hu
  rcases hB with ⟨x, a1⟩ | ⟨v, c, rfl, a1, hc, a2⟩
  all_goals
    go_enter Try.func5, Try.ntmps5
    go_upto_region 4 with (first
      | (go_at_call 17; refine (a0.out _ hq.out).mono ?_; rintro e w1 ⟨rfl, hg1, hp1⟩; have hq1 := Hid.mk' hp1; clear hp1)
      | (go_at_call 18; refine (kinds_row _).mono ?_; rintro e w2 ⟨g, rfl, hc, hg2⟩; have hq2 := Hid.mk' (K.out _ _ hq1.out hg2); have hc' := hc r k hkr; clear hc))
    have hG2 := Hid.mk' (gt hg1 hg2)
    clear hg1 hg2
  · go_wp2_with (first
      | (go_at_call 10; refine (a1.out _ hq2.out).mono ?_; rintro e w3 ⟨rfl, hg3⟩; have hq3 := Hid.mk' (K.out _ _ hq2.out hg3); have hG3 := Hid.mk' (gt hG2.out hg3)))
    clear hc' a1 a0 hg3
    go_loopw [11] (fun t11 wx => ∃ (i : Nat), i ≤ 256 ∧ t11 = .int .i64 (i : Int) ∧ Hid (w.grownBy wx none) ∧ Hid (P wx)) (fun t11 _ => 256 - (intOf t11).toNat)
    case atStart => exact ⟨0, by omega, rfl, hG3, hq3⟩
    case round =>
      obtain ⟨i, hi, rfl, hG, hP⟩ := hrel
      by_cases hlt : i < 256
      · have hlt' : (i : Int) < 256 := by omega
        rcases hR.out i hlt with ⟨x, b1⟩ | ⟨v, c, b1, b2, hci, b3⟩
        · go_wp2_with (go_at_call 8; refine (b1.out _ hP.out).mono ?_; rintro e w4 ⟨rfl, hg4⟩)
          go_roundw
          case rel => exact ⟨i + 1, by omega, by go_num, Hid.mk' (gt hG.out hg4), Hid.mk' (K.out _ _ hP.out hg4)⟩
          all_goals (simp [intOf]; omega)
        · have hci' : decide ((i : Int) < (c : Int)) = false := by simp; omega
          have hc' : (c : Int) < 256 := by omega
          go_upto_region 15 with (go_at_call 8; refine (b1.out _ hP.out).mono ?_; rintro e w4 ⟨rfl, hg4⟩; have hP4 := Hid.mk' (K.out _ _ hP.out hg4))
          go_wp2_with (first
            | (go_at_call 10; refine (b2.out _ hP4.out).mono ?_; rintro e w5 ⟨rfl, hg5⟩; have hP5 := Hid.mk' (K.out _ _ hP4.out hg5))
            | (go_at_call 8; refine (b3.out _ hP5.out).mono ?_; rintro e w6 ⟨rfl, hg6⟩; have hP6 := Hid.mk' (K.out _ _ hP5.out hg6)))
          go_roundw
          case rel => exact ⟨i + 1, by omega, by go_num, Hid.mk' (gt (gt (gt hG.out hg4) hg5) hg6), hP6⟩
          all_goals (simp [intOf]; omega)
      · obtain rfl : i = 256 := by omega
        go_wp2
        go_ret
        exact ⟨rfl, hG.out⟩
  · have hcc : (c : Int) < 256 := by omega
    go_upto_region 10 with (first
      | (go_at_call 10; refine (a1.out _ hq2.out).mono ?_; rintro e w3 ⟨rfl, hg3⟩; have hq30 := Hid.mk' (K.out _ _ hq2.out hg3))
      | (go_at_call 8; refine (a2.out _ hq30.out).mono ?_; rintro e w30 ⟨rfl, hg30⟩; have hq3 := Hid.mk' (K.out _ _ hq30.out hg30); have hG3 := Hid.mk' (gt (gt hG2.out hg3) hg30)))
    go_wp2
    clear hc' a1 a0 a2 hg3 hg30
    go_loopw [11] (fun t11 wx => ∃ (i : Nat), i ≤ 256 ∧ t11 = .int .i64 (i : Int) ∧ Hid (w.grownBy wx none) ∧ Hid (P wx)) (fun t11 _ => 256 - (intOf t11).toNat)
    case atStart => exact ⟨0, by omega, rfl, hG3, hq3⟩
    case round =>
      obtain ⟨i, hi, rfl, hG, hP⟩ := hrel
      by_cases hlt : i < 256
      · have hlt' : (i : Int) < 256 := by omega
        rcases hR.out i hlt with ⟨x, b1⟩ | ⟨v, c, b1, b2, hci, b3⟩
        · go_wp2_with (go_at_call 8; refine (b1.out _ hP.out).mono ?_; rintro e w4 ⟨rfl, hg4⟩)
          go_roundw
          case rel => exact ⟨i + 1, by omega, by go_num, Hid.mk' (gt hG.out hg4), Hid.mk' (K.out _ _ hP.out hg4)⟩
          all_goals (simp [intOf]; omega)
        · have hci' : decide ((i : Int) < (c : Int)) = false := by simp; omega
          have hc' : (c : Int) < 256 := by omega
          go_upto_region 15 with (go_at_call 8; refine (b1.out _ hP.out).mono ?_; rintro e w4 ⟨rfl, hg4⟩; have hP4 := Hid.mk' (K.out _ _ hP.out hg4))
          go_wp2_with (first
            | (go_at_call 10; refine (b2.out _ hP4.out).mono ?_; rintro e w5 ⟨rfl, hg5⟩; have hP5 := Hid.mk' (K.out _ _ hP4.out hg5))
            | (go_at_call 8; refine (b3.out _ hP5.out).mono ?_; rintro e w6 ⟨rfl, hg6⟩; have hP6 := Hid.mk' (K.out _ _ hP5.out hg6)))
          go_roundw
          case rel => exact ⟨i + 1, by omega, by go_num, Hid.mk' (gt (gt (gt hG.out hg4) hg5) hg6), hP6⟩
          all_goals (simp [intOf]; omega)
      · obtain rfl : i = 256 := by omega
        go_wp2
        go_ret
        exact ⟨rfl, hG.out⟩
