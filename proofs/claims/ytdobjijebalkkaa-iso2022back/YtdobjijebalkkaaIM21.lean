/- Layer 21, plain: the Modes that steps lead to. -/
import Derived.Test.YtdobjijebalkkaaIP21
namespace Go.Proofs.Ytdobjijebalkkaa.C21
open Go.RowKit Go.Proofs.Ytdobjijebalkkaa.Mem Go.Proofs.Ytdobjijebalkkaa.Sp
set_option linter.unusedVariables false

theorem pr_mode (k : Int) (m b : Nat) (r : List UInt8) : (pr k m b r).2.2.2.2 = 0 ∨ (pr k m b r).2.2.2.2 = (m : Int) := by
  unfold pr
  cases r with
  | nil => exact .inl rfl
  | cons c r =>
    simp only
    split
    · exact .inr rfl
    · split <;> exact .inr rfl
theorem jF_mode (L : List UInt8) (l : List Nat) (md : Nat) (h : jF L l = some (some md)) : md < 3 := by
  induction l with
  | nil => cases h
  | cons i l ih =>
    unfold jF at h
    split at h
    · have e : sqM i = md := Option.some.inj (Option.some.inj h)
      rw [← e]
      unfold sqM
      repeat' split
      all_goals omega
    · split at h
      · cases h
      · exact ih h
theorem gJ_mode (m : Nat) (hm : m < 3) (L : List UInt8) : 0 ≤ (gJ m L).2.2.2.2 ∧ (gJ m L).2.2.2.2 < 3 := by
  unfold gJ
  cases L with
  | nil => exact ⟨by simp, by simp⟩
  | cons b r =>
    simp only
    cases hj : jF (b :: r) [0, 1, 2, 3] with
    | some o =>
      cases o with
      | some md =>
        have := jF_mode _ _ _ hj
        simp only
        omega
      | none => exact ⟨by simp, by simp⟩
    | none =>
      simp only
      unfold jC
      have := pr_mode 83 m b.toNat r
      repeat' split
      all_goals (try simp only); omega
theorem gK_mode (m : Nat) (hm : m < 3) (L : List UInt8) : 0 ≤ (gK m L).2.2.2.2 ∧ (gK m L).2.2.2.2 < 3 := by
  unfold gK
  cases L with
  | nil => exact ⟨by simp, by simp⟩
  | cons b r =>
    simp only
    unfold kC
    have := pr_mode 88 m b.toNat r
    repeat' split
    all_goals (try simp only); omega
theorem good_less {k : Int} {m m' : Nat} {c : List UInt8} {a : Option Int} {T : List Stp} (hm : m < 3) (h : SGood (gE k) m ((c, a, m') :: T)) : m' < 3 := by
  have h1 := h.1.2.2.2 []
  have h2 : 0 ≤ (gE k m (c ++ [])).2.2.2.2 ∧ (gE k m (c ++ [])).2.2.2.2 < 3 := by
    unfold gE
    split
    · exact ⟨by simp, by simp⟩
    · split
      · exact ⟨by simp, by simp⟩
      · split
        · exact gJ_mode m hm _
        · exact gK_mode m hm _
  rw [h1] at h2
  unfold tells at h2
  simp only at h2
  omega
end Go.Proofs.Ytdobjijebalkkaa.C21
