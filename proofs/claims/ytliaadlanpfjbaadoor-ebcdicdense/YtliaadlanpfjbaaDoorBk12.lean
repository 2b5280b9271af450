/- There and back, in plain functions. -/
import Derived.Test.YtliaadlanpfjbaaDoorRf12
namespace Go.Proofs.YtliaadlanpfjbaaDoor.C12
set_option linter.unusedVariables false

theorem scI_some {k : Int} {b u : Nat} (h : scI k b = some u) : k ∈ kinds ∧ atR k b = u ∧ u ≠ 65533 := by
  unfold scI at h
  split at h
  · rename_i hk
    split at h
    · cases h
    · rename_i h9
      have := Option.some.inj h
      exact ⟨hk, this, by rw [← this]; exact h9⟩
  · cases h
theorem scI_of {k : Int} {b u : Nat} (hk : k ∈ kinds) (h : atR k b = u) (h9 : u ≠ 65533) : scI k b = some u := by
  unfold scI
  rw [if_pos hk, h, if_neg h9]
/-- The scalar of a number's byte is that number. -/
theorem byI_back {k u : Int} {b : Nat} (h : byI k u = some b) : b < 256 ∧ 0 ≤ u ∧ scI k b = some u.toNat := by
  unfold byI at h
  split at h
  · rename_i hk
    split at h
    · cases h
    · rename_i h9
      have h1 := List.find?_some h
      have h2 := List.mem_of_find?_eq_some h
      have e : (atR k b : Int) = u := by simpa using h1
      exact ⟨List.mem_range.1 h2, by omega, scI_of hk (by omega) (by omega)⟩
  · cases h
theorem find_le (p : Nat → Bool) (n b : Nat) (hb : b < n) (hp : p b = true) : ∃ c, (List.range n).find? p = some c ∧ c ≤ b ∧ p c = true := by
  induction n with
  | zero => omega
  | succ n ih =>
    rw [List.range_succ, List.find?_append]
    by_cases h : b < n
    · obtain ⟨c, h1, h2, h3⟩ := ih h
      exact ⟨c, by rw [h1]; rfl, h2, h3⟩
    · obtain rfl : b = n := by omega
      cases hf : (List.range b).find? p with
      | some c => exact ⟨c, rfl, by have := List.mem_range.1 (List.mem_of_find?_eq_some hf); omega, List.find?_some hf⟩
      | none => exact ⟨b, by simp [hp], Nat.le_refl _, hp⟩
/-- The byte of a byte's scalar is no greater, and stands for the same. -/
theorem scI_back {k : Int} {b u : Nat} (hb : b < 256) (h : scI k b = some u) : ∃ c, byI k (u : Int) = some c ∧ c ≤ b ∧ scI k c = some u := by
  obtain ⟨hk, ha, h9⟩ := scI_some h
  obtain ⟨c, h1, h2, h3⟩ := find_le (fun b => (atR k b : Int) == (u : Int)) 256 b hb (by simp [ha])
  refine ⟨c, ?_, h2, scI_of hk (by have : (atR k c : Int) = (u : Int) := by simpa using h3
                                   omega) h9⟩
  unfold byI
  rw [if_pos hk, if_neg (by omega)]
  exact h1
end Go.Proofs.YtliaadlanpfjbaaDoor.C12
