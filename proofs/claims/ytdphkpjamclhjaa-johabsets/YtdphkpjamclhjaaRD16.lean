/- The document's Place: a walk. -/
import Derived.Test.YtdphkpjamclhjaaRB16
namespace Go.Proofs.Ytdphkpjamclhjaa.C16
open Go.ChangeShapes Go.WideShapes Go.ChangeAt Go.RowKit Go.Proofs.Ytdphkpjamclhjaa.Mem
set_option linter.unusedVariables false
set_option linter.unusedSimpArgs false

/-- Does the cell number p (by rows, then by cells) stand for u? The first such cell; its row and cell. -/
def hit (u : Int) (p : Nat) : Bool := decide ((scP ((p / 94 : Nat) + 1) ((p % 94 : Nat) + 1)).map (fun n : Nat => (n : Int)) = some u)
def plP (u : Int) : Option Nat := (List.range 8836).find? (hit u)
def plT (u : Int) : Nat × Nat × Bool := match plP u with | some p => (p / 94 + 1, p % 94 + 1, true) | none => (0, 0, false)
theorem find_first (f : Nat → Bool) (n i : Nat) (hi : i < n) (h1 : f i = true) (h0 : ∀ j, j < i → f j = false) : (List.range n).find? f = some i := by
  rw [List.find?_range_eq_some]
  exact ⟨h1, by simpa using hi, fun j hj => by rw [h0 j hj]; rfl⟩
theorem find_none (f : Nat → Bool) (n : Nat) (h0 : ∀ j, j < n → f j = false) : (List.range n).find? f = none := by
  rw [List.find?_range_eq_none]
  exact fun j hj => by rw [h0 j hj]; rfl
theorem scP_small {k c : Int} {n : Nat} (h : scP k c = some n) : n ≤ 65535 ∧ n ≠ 65533 ∧ k ∈ kinds ∧ 1 ≤ c ∧ c ≤ 94 ∧ cellR k (c - 1).toNat = n := by
  unfold scP at h
  split at h
  · rename_i hc
    split at h
    · cases h
    · rename_i h9
      have e := Option.some.inj h
      refine ⟨?_, by rw [← e]; exact h9, hc.1, hc.2.1, hc.2.2, e⟩
      rw [← e, cellR, List.getD_eq_getElem?_getD]
      cases hg : (tab k)[(c - 1).toNat]? with
      | none => simp
      | some x => exact tab_small x (List.mem_of_getElem? hg)
  · cases h
theorem hit_iff {u : Int} {p : Nat} : hit u p = true ↔ ∃ n : Nat, scP ((p / 94 : Nat) + 1) ((p % 94 : Nat) + 1) = some n ∧ (n : Int) = u := by
  unfold hit
  rw [decide_eq_true_eq]
  constructor
  · intro h
    cases e : scP ((p / 94 : Nat) + 1) ((p % 94 : Nat) + 1) with
    | none => rw [e] at h; cases h
    | some n => rw [e] at h; exact ⟨n, rfl, Option.some.inj h⟩
  · rintro ⟨n, e, rfl⟩
    rw [e]
    rfl
theorem hit_odd {u : Int} (h : u = 65533 ∨ u < 0 ∨ 65535 < u) (p : Nat) : hit u p = false := by
  cases e : hit u p
  · rfl
  · obtain ⟨n, h1, h2⟩ := hit_iff.1 e
    obtain ⟨a, b, _⟩ := scP_small h1
    omega
theorem plT_none {u : Int} (h : ∀ p, p < 8836 → hit u p = false) : plT u = (0, 0, false) := by
  unfold plT plP
  rw [find_none _ _ h]
theorem plT_at {u : Int} {r c : Nat} (hr : r < 94) (hc : c < 94) (h1 : hit u (94 * r + c) = true) (h0 : ∀ p, p < 94 * r + c → hit u p = false) : plT u = (r + 1, c + 1, true) := by
  unfold plT plP
  rw [find_first _ _ (94 * r + c) (by omega) h1 h0]
  simp only [Prod.mk.injEq, and_true]
  constructor <;> omega
theorem hit_at {u : Int} {r c : Nat} (hc : c < 94) : hit u (94 * r + c) = decide ((scP ((r : Int) + 1) ((c : Int) + 1)).map (fun n : Nat => (n : Int)) = some u) := by
  unfold hit
  rw [show (94 * r + c) / 94 = r by omega, show (94 * r + c) % 94 = c by omega]
theorem place_back {u : Int} {A B : Nat} (h : plT u = (A, B, true)) : 1 ≤ A ∧ A ≤ 94 ∧ 1 ≤ B ∧ B ≤ 94 ∧ 0 ≤ u ∧ scP (A : Int) (B : Int) = some u.toNat := by
  unfold plT at h
  cases e : plP u with
  | none => rw [e] at h; simp at h
  | some p =>
    rw [e] at h
    simp only [Prod.mk.injEq, and_true] at h
    obtain ⟨rfl, rfl⟩ := h
    unfold plP at e
    rw [List.find?_range_eq_some] at e
    obtain ⟨h1, h2, _⟩ := e
    obtain ⟨n, h3, h4⟩ := hit_iff.1 h1
    have h5 : p < 8836 := by simpa using h2
    refine ⟨by omega, by omega, by omega, by omega, by omega, ?_⟩
    have e1 : (((p / 94 + 1 : Nat)) : Int) = ((p / 94 : Nat) : Int) + 1 := by omega
    have e2 : (((p % 94 + 1 : Nat)) : Int) = ((p % 94 : Nat) : Int) + 1 := by omega
    rw [e1, e2, h3, ← h4]
    rfl
/-- The place of a cell's scalar: that cell, or one ahead of it. -/
theorem back_place {r c n : Nat} (hr : r < 94) (hc : c < 94) (h : scP ((r : Int) + 1) ((c : Int) + 1) = some n) : ∃ A B, plT (n : Int) = (A, B, true) ∧ (A < r + 1 ∨ A = r + 1 ∧ B ≤ c + 1) := by
  have h1 : hit (n : Int) (94 * r + c) = true := by rw [hit_at hc, h]; simp
  unfold plT
  cases e : plP (n : Int) with
  | none =>
    unfold plP at e
    rw [List.find?_range_eq_none] at e
    have := e (94 * r + c) (by omega)
    rw [h1] at this
    simp at this
  | some p =>
    have e0 := e
    unfold plP at e0
    rw [List.find?_range_eq_some] at e0
    obtain ⟨_, h2, h3⟩ := e0
    have h4 : p ≤ 94 * r + c := by
      by_cases hlt : 94 * r + c < p
      · have := h3 _ hlt
        rw [h1] at this
        simp at this
      · omega
    refine ⟨p / 94 + 1, p % 94 + 1, rfl, ?_⟩
    omega
end Go.Proofs.Ytdphkpjamclhjaa.C16
