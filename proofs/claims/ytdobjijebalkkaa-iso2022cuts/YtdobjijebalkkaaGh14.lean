/- RK14, RR14, joined. -/
import Derived.Test.YtdobjijebalkkaaRJ14
/- JisHalf: the walk over the program's contracts. -/
namespace Go.Proofs.Ytdobjijebalkkaa.C14
open Go.ChangeShapes Go.WideShapes Go.ChangeAt Go.RowKit Go.Proofs.Ytdobjijebalkkaa.Mem
set_option linter.unusedVariables false
set_option linter.unusedSimpArgs false

structure ConH (P : World → Prop) : Prop where
  keep : ∀ {w w' : World}, P w → w.grownBy w' none → P w'
  half : ∀ (b : Nat) (hb : b < 256) (w : World) (R : Option Nat) (hR : Hid (haR b = R)), P w → Calls Try.prog 36 #[.int .u8 (b : Int)] w fun e w' => e = .returned (.tuple #[.int .i32 ((R.getD 0 : Nat) : Int), .bool R.isSome]) ∧ w.grownBy w' none
  halfByte : ∀ (u : Int) (hu : I32 u) (w : World) (R : Option Nat) (hR : Hid (hbR u = R)), P w → Calls Try.prog 55 #[.int .i32 u] w fun e w' => e = .returned (.tuple #[.int .u8 ((R.getD 0 : Nat) : Int), .bool R.isSome]) ∧ w.grownBy w' none
theorem haR_le {b n : Nat} (hb : b < 256) (h : haR b = some n) : n ≤ 65535 := by
  have : ∀ b, b < 256 → ∀ n, haR b = some n → n ≤ 65535 := by decide +kernel
  exact this b hb n h
end Go.Proofs.Ytdobjijebalkkaa.C14

/- The program's Half and HalfByte: walks; what JisHalf wants of the program. -/
namespace Go.Proofs.Ytdobjijebalkkaa.C14
open Go.ChangeShapes Go.WideShapes Go.ChangeAt Go.RowKit Go.Proofs.Ytdobjijebalkkaa.Mem
set_option linter.unusedVariables false
set_option linter.unusedSimpArgs false

set_option maxRecDepth 100000 in
set_option maxHeartbeats 1000000 in
theorem pHalf (b : Nat) (hb : b < 256) (w : World) (R : Option Nat) (hR : Hid (haR b = R)) : Calls Try.prog 36 #[.int .u8 (b : Int)] w fun e w' => e = .returned (.tuple #[.int .i32 ((R.getD 0 : Nat) : Int), .bool R.isSome]) ∧ w' = w := by
  have hR1 := hR.out
  unfold haR at hR1
  by_cases h1 : b = 92
  · rw [if_pos h1] at hR1
    subst h1
    subst hR1
    clear hR
    go_enter Try.func36, Try.ntmps36
    go_wp2
    go_ret2
    exact ⟨rfl, rfl⟩
  · rw [if_neg h1] at hR1
    have h1' : ((b : Int) == 92) = false := by simp; omega
    by_cases h2 : b = 126
    · rw [if_pos h2] at hR1
      subst h2
      subst hR1
      clear hR h1'
      go_enter Try.func36, Try.ntmps36
      go_wp2
      go_ret2
      exact ⟨rfl, rfl⟩
    · rw [if_neg h2] at hR1
      have h2' : ((b : Int) == 126) = false := by simp; omega
      by_cases h3 : b < 128
      · rw [if_pos h3] at hR1
        subst hR1
        have h3' : (b : Int) < 128 := by omega
        clear hR
        go_enter Try.func36, Try.ntmps36
        go_wp2
        go_ret2
        exact ⟨rfl, rfl⟩
      · rw [if_neg h3] at hR1
        have h3' : ¬ (b : Int) < 128 := by omega
        by_cases h4 : 161 ≤ b ∧ b ≤ 223
        · rw [if_pos h4] at hR1
          obtain ⟨h4a, h4b⟩ := h4
          obtain ⟨j, hj⟩ : ∃ j, b - 161 = j := ⟨_, rfl⟩
          rw [hj] at hR1
          subst hR1
          have e1 : (b : Int) - 161 = (j : Int) := by omega
          have hj2 : (j : Int) ≤ 62 := by omega
          have h4a' : 161 ≤ (b : Int) := by omega
          have h4b' : (b : Int) ≤ 223 := by omega
          clear hR hj
          go_enter Try.func36, Try.ntmps36
          go_wp2
          go_ret2
          refine ⟨?_, rfl⟩
          simp
        · rw [if_neg h4] at hR1
          subst hR1
          clear hR
          by_cases h5 : 161 ≤ b
          · have h5' : 161 ≤ (b : Int) := by omega
            have h6' : ¬ (b : Int) ≤ 223 := by omega
            have hb' : (b : Int) < 256 := by omega
            go_enter Try.func36, Try.ntmps36
            go_wp2
            go_ret2
            exact ⟨rfl, rfl⟩
          · have h5' : ¬ 161 ≤ (b : Int) := by omega
            go_enter Try.func36, Try.ntmps36
            go_wp2
            go_ret2
            exact ⟨rfl, rfl⟩
set_option maxRecDepth 100000 in
set_option maxHeartbeats 1000000 in
theorem pHalfByte (u : Int) (w : World) (R : Option Nat) (hR : Hid (hbR u = R)) : Calls Try.prog 55 #[.int .i32 u] w fun e w' => e = .returned (.tuple #[.int .u8 ((R.getD 0 : Nat) : Int), .bool R.isSome]) ∧ w' = w := by
  go_enter Try.func55, Try.ntmps55
  go_wp2
  go_loopw [8] (fun t5 wx => ∃ (i : Nat), i ≤ 256 ∧ t5 = .int .i64 (i : Int) ∧ Hid (∀ j, j < i → decide ((haR j).map (fun n : Nat => (n : Int)) = some u) = false) ∧ wx = w) (fun t5 _ => 256 - (intOf t5).toNat)
  case atStart => exact ⟨0, by omega, rfl, Hid.mk' (by omega), rfl⟩
  case round =>
    obtain ⟨i, hi, rfl, hb, rfl⟩ := hrel
    by_cases hlt : i < 256
    · have hlt' : (i : Int) < 256 := by omega
      obtain ⟨Q, hQ⟩ : ∃ Q, Hid (haR i = Q) := ⟨_, Hid.mk' rfl⟩
      have a1 := Hid.mk' (fun w => pHalf i hlt w Q hQ)
      cases Q with
      | none =>
        go_wp2_with (go_at_call 36; refine (a1.out _).mono ?_; rintro e w1 ⟨rfl, rfl⟩)
        go_roundw
        case rel => exact ⟨i + 1, by omega, by go_num, Hid.mk' (fun j hj => by
          by_cases e : j = i
          · subst e; rw [hQ.out]; simp
          · exact hb.out j (by omega)), by first | exact rfl | trivial⟩
        all_goals (simp [intOf]; omega)
      | some n =>
        simp only [Option.getD_some, Option.isSome_some] at a1
        by_cases hnu : (n : Int) = u
        · have : R = some i := by
            rw [← hR.out, hbR]
            exact find_first _ 256 i hlt (by rw [hQ.out, ← hnu]; simp) hb.out
          subst this
          subst hnu
          clear hR
          go_wp2_with (go_at_call 36; refine (a1.out _).mono ?_; rintro e w1 ⟨rfl, rfl⟩)
          go_ret2
          exact ⟨rfl, rfl⟩
        · have hnu' : ((n : Int) == u) = false := by simpa using hnu
          go_wp2_with (go_at_call 36; refine (a1.out _).mono ?_; rintro e w1 ⟨rfl, rfl⟩)
          go_roundw
          case rel => exact ⟨i + 1, by omega, by go_num, Hid.mk' (fun j hj => by
            by_cases e : j = i
            · subst e; rw [hQ.out]; simpa using hnu
            · exact hb.out j (by omega)), by first | exact rfl | trivial⟩
          all_goals (simp [intOf]; omega)
    · obtain rfl : i = 256 := by omega
      have : R = none := by rw [← hR.out, hbR]; exact find_none _ _ hb.out
      subst this
      clear hR
      go_wp2_with fail
      go_ret2
      exact ⟨rfl, rfl⟩
theorem conH : ConH (fun _ => True) where
  keep _ _ := trivial
  half b hb w R hR _ := (pHalf b hb w R hR).mono (fun e w' h => ⟨h.1, by rw [h.2]; exact grownBy_refl _ _⟩)
  halfByte u hu w R hR _ := (pHalfByte u w R hR).mono (fun e w' h => ⟨h.1, by rw [h.2]; exact grownBy_refl _ _⟩)
end Go.Proofs.Ytdobjijebalkkaa.C14
