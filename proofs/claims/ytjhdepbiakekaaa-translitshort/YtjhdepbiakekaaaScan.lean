/- Texts read unit by unit: plain mathematics. -/
import Derived.Test.YtjhdepbiakekaaaMath
namespace Go.Proofs.Ytjhdepbiakekaaa.U8
open Go.Proofs.Ytjhdepbiakekaaa.Ucs Go.Proofs.Ytjhdepbiakekaaa.Mem
set_option linter.unusedVariables false

/-- The scalars of a text, how many bytes they have, and the error behind them. -/
def scan : Nat → List UInt8 → List Nat × Nat × Int
  | 0, _ => ([], 0, 0)
  | f + 1, L => if L = [] then ([], 0, 0) else match get L with
    | some (.inr (n, u)) => (u :: (scan f (L.drop n)).1, n + (scan f (L.drop n)).2.1, (scan f (L.drop n)).2.2)
    | R => ([], 0, Res.err R)
def scanAll (L : List UInt8) : List Nat × Nat × Int := scan L.length L

theorem scan_nil (f : Nat) : scan f [] = ([], 0, 0) := by cases f <;> simp [scan]
theorem scan_stop {L : List UInt8} (h : L ≠ []) (hR : (get L).err ≠ 0) (f : Nat) : scan (f + 1) L = ([], 0, (get L).err) := by
  rw [scan, if_neg h]
  cases hg : get L using Res.three with
  | ok n u => rw [hg] at hR; simp [Res.err] at hR
  | more => rfl
  | ill n => rfl
theorem scan_step {L : List UInt8} {n u : Nat} (h : get L = .ok n u) (f : Nat) : scan (f + 1) L = (u :: (scan f (L.drop n)).1, n + (scan f (L.drop n)).2.1, (scan f (L.drop n)).2.2) := by
  have hne : L ≠ [] := by intro e; subst e; cases h
  rw [scan, if_neg hne, h]
theorem ok_n {L : List UInt8} {n u : Nat} (h : get L = .ok n u) : 1 ≤ n ∧ n ≤ L.length := by
  have := get_n (L := L) (by rw [h]; simp)
  rw [h] at this
  exact ⟨this.1, this.2.1⟩
theorem scan_fuel : ∀ (f g : Nat) (L : List UInt8), L.length ≤ f → L.length ≤ g → scan f L = scan g L := by
  intro f
  induction f with
  | zero =>
    intro g L h _
    have : L = [] := List.length_eq_zero_iff.1 (by omega)
    subst this
    rw [scan_nil, scan_nil]
  | succ f ih =>
    intro g L h1 h2
    cases g with
    | zero =>
      have : L = [] := List.length_eq_zero_iff.1 (by omega)
      subst this
      rw [scan_nil, scan_nil]
    | succ g =>
      by_cases hne : L = []
      · subst hne; rw [scan_nil, scan_nil]
      · cases hg : get L using Res.three with
        | ok n u =>
          have := ok_n hg
          rw [scan_step hg, scan_step hg, ih g (L.drop n) (by simp; omega) (by simp; omega)]
        | more => rw [scan_stop hne (by rw [hg]; simp [Res.err]), scan_stop hne (by rw [hg]; simp [Res.err])]
        | ill n => rw [scan_stop hne (by rw [hg]; simp [Res.err]), scan_stop hne (by rw [hg]; simp [Res.err])]
theorem scanAll_nil : scanAll [] = ([], 0, 0) := rfl
theorem scanAll_stop {L : List UInt8} (h : L ≠ []) (hR : (get L).err ≠ 0) : scanAll L = ([], 0, (get L).err) := by
  obtain ⟨c, r, rfl⟩ := List.exists_cons_of_ne_nil h
  exact scan_stop h hR _
theorem scanAll_step {L : List UInt8} {n u : Nat} (h : get L = .ok n u) : scanAll L = (u :: (scanAll (L.drop n)).1, n + (scanAll (L.drop n)).2.1, (scanAll (L.drop n)).2.2) := by
  have hn := ok_n h
  obtain ⟨c, r, rfl⟩ := List.exists_cons_of_ne_nil (List.ne_nil_of_length_pos (show 0 < L.length by omega))
  show scan (r.length + 1) (c :: r) = _
  rw [scan_step h, scan_fuel r.length _ _ (by simp at hn ⊢; omega) (Nat.le_refl _)]
  rfl
theorem err_ok {R : Res} (h : R.err = 0) : ∃ n u, R = .ok n u := by
  cases R using Res.three with
  | ok n u => exact ⟨n, u, rfl⟩
  | more => cases h
  | ill n => cases h
theorem scan_unit {u : Nat} (h : scB (u : Int) = true) (r : List UInt8) : scanAll (unit u ++ r) = (u :: (scanAll r).1, (unit u).length + (scanAll r).2.1, (scanAll r).2.2) := by
  rw [scanAll_step (get_unit h r), List.drop_left]
theorem scan_le : ∀ (k : Nat) (L : List UInt8), L.length ≤ k → (scanAll L).2.1 ≤ L.length ∧ (scanAll L).1.length ≤ L.length ∧ ((scanAll L).2.2 = 0 → (scanAll L).2.1 = L.length) ∧ ∀ u ∈ (scanAll L).1, u ≤ 1114111 := by
  intro k
  induction k with
  | zero =>
    intro L h
    have : L = [] := List.length_eq_zero_iff.1 (by omega)
    subst this
    simp [scanAll_nil]
  | succ k ih =>
    intro L h
    by_cases hne : L = []
    · subst hne; simp [scanAll_nil]
    · by_cases he : (get L).err = 0
      · obtain ⟨n, u, hg⟩ := err_ok he
        have hn := ok_n hg
        obtain ⟨h1, h2, h3, h4⟩ := ih (L.drop n) (by simp; omega)
        rw [scanAll_step hg]
        simp only [List.length_drop] at h1 h2 h3
        refine ⟨by show n + _ ≤ _; omega, by simp; omega, fun e => by have := h3 e; show n + _ = _; omega, ?_⟩
        intro x hx
        rcases List.mem_cons.1 hx with rfl | hx
        · exact sc_le (get_ok hg).1
        · exact h4 x hx
      · rw [scanAll_stop hne he]
        exact ⟨by simp, by simp, fun e => absurd e he, by simp⟩
end Go.Proofs.Ytjhdepbiakekaaa.U8
