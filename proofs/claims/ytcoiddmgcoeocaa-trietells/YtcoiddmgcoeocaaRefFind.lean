/- The document's Scalar and Code over pairs: walks. -/
import Derived.Test.YtcoiddmgcoeocaaFind
namespace Go.Proofs.Ytcoiddmgcoeocaa.Rn
open Go.ChangeShapes Go.WideShapes Go.ChangeAt Go.RowKit Go.Proofs.Ytcoiddmgcoeocaa.Mem Go.Proofs.Ytcoiddmgcoeocaa.Ucs Go.Proofs.Ytcoiddmgcoeocaa.El
set_option linter.unusedVariables false
set_option linter.unusedSimpArgs false

set_option maxRecDepth 100000 in
set_option maxHeartbeats 2000000 in
theorem refScalar_any (ao : Option Addr) (cap : Nat) (L : List Pr) (x : Int) (w : World) (hB : PE.Rd w ao L) (hc : L.length ≤ cap) (hcm : cap ≤ 9223372036854775807) (C : Option Int) (hC : Hid (pS L x = C)) :
    Calls Try.prog 25 #[.slice ao L.length cap, .int .i64 x] w fun e w' => e = .returned (.tuple #[.int .i32 (C.getD 0), .bool C.isSome]) ∧ w.grownBy w' none := by
  have hB0 : Hid (PE.Rd w ao L) := hB
  clear hB
  obtain ⟨y, hc0⟩ : ∃ y, Hid (C.getD 0 = y) := ⟨_, (rfl : C.getD 0 = C.getD 0)⟩
  obtain ⟨s, hs0⟩ : ∃ s, Hid (C.isSome = s) := ⟨_, (rfl : C.isSome = C.isSome)⟩
  rw [hc0.out, hs0.out]
  have hl : L.length ≤ 9223372036854775807 := by omega
  go_enter Try.func25, Try.ntmps25
  go_wp2
  go_loop [6] (fun t6 => ∃ i : Nat, i ≤ L.length ∧ t6 = .int .i64 (i : Int) ∧ Hid (pS (L.drop i) x = C)) (fun t6 => L.length - (intOf t6).toNat)
  case atStart => exact ⟨0, by omega, rfl, hC⟩
  case round =>
    obtain ⟨i, hi, rfl, hp⟩ := hrel
    by_cases hlt : i < L.length
    · obtain ⟨c, u, he⟩ : ∃ c u, L[i] = (c, u) := ⟨_, _, rfl⟩
      obtain ⟨b, o, rfl, hb, x0, x1⟩ := pcells hB0.out hlt he
      rw [drop_at hlt he] at hp
      have Hp : Hid ((if c = x then some u else pS (L.drop (i + 1)) x) = C) := hp.out
      have hlt' : (i : Int) < (L.length : Int) := by omega
      have hi0 : (0 : Int) ≤ (i : Int) := by omega
      clear he hp
      by_cases hcx : c = x
      · have hC2 : C = some u := by rw [← Hp.out, if_pos hcx]
        have e1 : y = u := by rw [← hc0.out, hC2]; rfl
        have e2 : s = true := by rw [← hs0.out, hC2]; rfl
        subst e1 e2 hcx
        clear hC2
        go_wp2
        go_ret2
        exact ⟨rfl, grownBy_refl _ _⟩
      · have hC2 : Hid (pS (L.drop (i + 1)) x = C) := (by rw [← Hp.out, if_neg hcx] : pS (L.drop (i + 1)) x = C)
        have hcb : (c == x) = false := by simpa using hcx
        go_wp2
        go_round
        case rel => exact ⟨i + 1, by omega, by go_num, hC2⟩
        case measure => simp [intOf]; omega
    · obtain rfl : i = L.length := by omega
      have hC2 : C = none := by rw [← hp.out, List.drop_length]; rfl
      have e1 : y = 0 := by rw [← hc0.out, hC2]; rfl
      have e2 : s = false := by rw [← hs0.out, hC2]; rfl
      subst e1 e2
      clear hC2
      go_wp2
      go_ret2
      exact ⟨rfl, grownBy_refl _ _⟩
set_option maxRecDepth 100000 in
set_option maxHeartbeats 2000000 in
theorem refCode_any (ao : Option Addr) (cap : Nat) (L : List Pr) (x : Int) (w : World) (hB : PE.Rd w ao L) (hc : L.length ≤ cap) (hcm : cap ≤ 9223372036854775807) (C : Option Int) (hC : Hid (pC L x = C)) :
    Calls Try.prog 26 #[.slice ao L.length cap, .int .i32 x] w fun e w' => e = .returned (.tuple #[.int .i64 (C.getD 0), .bool C.isSome]) ∧ w.grownBy w' none := by
  have hB0 : Hid (PE.Rd w ao L) := hB
  clear hB
  obtain ⟨y, hc0⟩ : ∃ y, Hid (C.getD 0 = y) := ⟨_, (rfl : C.getD 0 = C.getD 0)⟩
  obtain ⟨s, hs0⟩ : ∃ s, Hid (C.isSome = s) := ⟨_, (rfl : C.isSome = C.isSome)⟩
  rw [hc0.out, hs0.out]
  have hl : L.length ≤ 9223372036854775807 := by omega
  go_enter Try.func26, Try.ntmps26
  go_wp2
  go_loop [6] (fun t6 => ∃ i : Nat, i ≤ L.length ∧ t6 = .int .i64 (i : Int) ∧ Hid (pC (L.drop i) x = C)) (fun t6 => L.length - (intOf t6).toNat)
  case atStart => exact ⟨0, by omega, rfl, hC⟩
  case round =>
    obtain ⟨i, hi, rfl, hp⟩ := hrel
    by_cases hlt : i < L.length
    · obtain ⟨c, u, he⟩ : ∃ c u, L[i] = (c, u) := ⟨_, _, rfl⟩
      obtain ⟨b, o, rfl, hb, x0, x1⟩ := pcells hB0.out hlt he
      rw [drop_at hlt he] at hp
      have Hp : Hid ((if u = x then some c else pC (L.drop (i + 1)) x) = C) := hp.out
      have hlt' : (i : Int) < (L.length : Int) := by omega
      have hi0 : (0 : Int) ≤ (i : Int) := by omega
      clear he hp
      by_cases hcx : u = x
      · have hC2 : C = some c := by rw [← Hp.out, if_pos hcx]
        have e1 : y = c := by rw [← hc0.out, hC2]; rfl
        have e2 : s = true := by rw [← hs0.out, hC2]; rfl
        subst e1 e2 hcx
        clear hC2
        go_wp2
        go_ret2
        exact ⟨rfl, grownBy_refl _ _⟩
      · have hC2 : Hid (pC (L.drop (i + 1)) x = C) := (by rw [← Hp.out, if_neg hcx] : pC (L.drop (i + 1)) x = C)
        have hcb : (u == x) = false := by simpa using hcx
        go_wp2
        go_round
        case rel => exact ⟨i + 1, by omega, by go_num, hC2⟩
        case measure => simp [intOf]; omega
    · obtain rfl : i = L.length := by omega
      have hC2 : C = none := by rw [← hp.out, List.drop_length]; rfl
      have e1 : y = 0 := by rw [← hc0.out, hC2]; rfl
      have e2 : s = false := by rw [← hs0.out, hC2]; rfl
      subst e1 e2
      clear hC2
      go_wp2
      go_ret2
      exact ⟨rfl, grownBy_refl _ _⟩
end Go.Proofs.Ytcoiddmgcoeocaa.Rn
