/- The order of units: plain mathematics. -/
import Derived.Test.YtbbegadpkpdiaabDoorMath
import Derived.Sort.Walk0
namespace Go.Proofs.YtbbegadpkpdiaabDoor.U8
open Go.Proofs.YtbbegadpkpdiaabDoor.Ucs Go.Proofs.YtbbegadpkpdiaabDoor.Mem
set_option linter.unusedVariables false

theorem uk_cases' (u : Nat) : (u < 128 ∧ uk u = 0) ∨ (128 ≤ u ∧ u < 2048 ∧ uk u = 1) ∨ (2048 ≤ u ∧ u < 65536 ∧ uk u = 2) ∨ (65536 ≤ u ∧ uk u = 3) := by
  unfold uk
  repeat' split
  all_goals omega
theorem lt_tls : ∀ j a b, (tls j a < tls j b ↔ a % 64 ^ j < b % 64 ^ j)
  | 0, a, b => by simp [tls, Nat.mod_one]
  | j + 1, a, b => by
    rw [tls, tls, List.cons_lt_cons_iff, lt_tls j a b, UInt8.lt_iff_toNat_lt, ← UInt8.toNat_inj, tl_nat, tl_nat, Nat.pow_succ, Nat.mod_mul, Nat.mod_mul]
    have ha := Nat.mod_lt a (show 0 < 64 ^ j from Nat.pow_pos (by omega))
    have hb := Nat.mod_lt b (show 0 < 64 ^ j from Nat.pow_pos (by omega))
    generalize 64 ^ j = P at *
    generalize a / P % 64 = x at *
    generalize b / P % 64 = y at *
    generalize a % P = r at *
    generalize b % P = s at *
    constructor
    · rintro (h | ⟨h, h'⟩)
      · have : P * (x + 1) ≤ P * y := Nat.mul_le_mul_left P (by omega)
        rw [Nat.mul_add, Nat.mul_one] at this
        omega
      · have : x = y := by omega
        subst this
        omega
    · intro h
      rcases Nat.lt_trichotomy x y with hxy | hxy | hxy
      · exact .inl (by omega)
      · subst hxy
        exact .inr ⟨rfl, by omega⟩
      · have : P * (y + 1) ≤ P * x := Nat.mul_le_mul_left P (by omega)
        rw [Nat.mul_add, Nat.mul_one] at this
        omega
theorem order_unit {a b : Nat} (ha : a ≤ 1114111) (hb : b ≤ 1114111) : unit a < unit b ↔ a < b := by
  rw [unit_eq, unit_eq, List.cons_lt_cons_iff, UInt8.lt_iff_toNat_lt, ← UInt8.toNat_inj, lead_nat ha, lead_nat hb]
  rcases uk_cases' a with ⟨h1, h2⟩ | ⟨h1, h3, h2⟩ | ⟨h1, h3, h2⟩ | ⟨h1, h2⟩ <;> rcases uk_cases' b with ⟨k1, k2⟩ | ⟨k1, k3, k2⟩ | ⟨k1, k3, k2⟩ | ⟨k1, k2⟩ <;> rw [h2, k2] <;> first
    | (rw [lt_tls]; simp only [fmark, show (64 : Nat) ^ 0 = 1 from rfl, show (64 : Nat) ^ 1 = 64 from rfl, show (64 : Nat) ^ 2 = 4096 from rfl, show (64 : Nat) ^ 3 = 262144 from rfl]; omega)
    | (simp only [fmark, show (64 : Nat) ^ 0 = 1 from rfl, show (64 : Nat) ^ 1 = 64 from rfl, show (64 : Nat) ^ 2 = 4096 from rfl, show (64 : Nat) ^ 3 = 262144 from rfl]; omega)
theorem less_unit {u v : Int} (hu : scB u = true) (hv : scB v = true) : Op.bytesLess (str (unit u.toNat)).toList (str (unit v.toNat)).toList = decide (u < v) := by
  obtain ⟨a, rfl⟩ := Int.eq_ofNat_of_zero_le (scB_iff.1 hu).1
  obtain ⟨b, rfl⟩ := Int.eq_ofNat_of_zero_le (scB_iff.1 hv).1
  rw [str_toList, str_toList, Int.toNat_natCast, Int.toNat_natCast, bytesLess_eq]
  exact decide_eq_decide.2 ((order_unit (sc_le hu) (sc_le hv)).trans (by omega))
theorem size_unit {u v : Int} (hu : scB u = true) (hv : scB v = true) (h : u ≤ v) : (str (unit u.toNat)).size ≤ (str (unit v.toNat)).size := by
  obtain ⟨a, rfl⟩ := Int.eq_ofNat_of_zero_le (scB_iff.1 hu).1
  obtain ⟨b, rfl⟩ := Int.eq_ofNat_of_zero_le (scB_iff.1 hv).1
  rw [str_size, str_size, Int.toNat_natCast, Int.toNat_natCast, unit_length, unit_length]
  rcases uk_cases' a with ⟨h1, h2⟩ | ⟨h1, h3, h2⟩ | ⟨h1, h3, h2⟩ | ⟨h1, h2⟩ <;> rcases uk_cases' b with ⟨k1, k2⟩ | ⟨k1, k3, k2⟩ | ⟨k1, k3, k2⟩ | ⟨k1, k2⟩ <;> omega
end Go.Proofs.YtbbegadpkpdiaabDoor.U8
