/- WideBack: plain facts of what is written and read. -/
import Derived.Test.YtkfcciacoplgmaaWBack1
import Derived.Deep.RegionHeld3
import Derived.BigQuiet
namespace Go.Proofs.Ytkfcciacoplgmaa.Wd
open Go.ChangeShapes Go.WideShapes Go.ChangeAt Go.RowKit Go.Proofs.Ytkfcciacoplgmaa.Mem Go.Proofs.Ytkfcciacoplgmaa.Ucs
set_option linter.unusedVariables false
set_option linter.unusedSimpArgs false

theorem bytesR_pos {p low : Bool} {n : Nat} {u : Int} {B : List UInt8} (hn : n = 2 ∨ n = 4) (h : bytesR p low n u = some B) : 0 < B.length := by
  unfold bytesR at h
  split at h
  · cases h
  · split at h
    · cases h; rw [unitB_length]; omega
    · split at h
      · cases h; rw [List.length_append, unitB_length, unitB_length]; omega
      · cases h
theorem bytesR_no {p low : Bool} {n : Nat} {u : Int} (h : bytesR p low n u = none) : scB u = false ∨ scB u = true ∧ 65535 < u ∧ p = false ∧ n ≠ 4 := by
  unfold bytesR at h
  split at h
  · next c => exact .inl c
  · next c =>
    split at h
    · cases h
    · next c2 =>
      split at h
      · cases h
      · next c3 => exact .inr ⟨by simpa using c, by omega, by simpa using c3, by omega⟩
theorem plain_cases (p lo : Bool) (n : Nat) (hn : n = 2 ∨ n = 4) (hp : p = true → n = 2) (M : List UInt8) (md : Int) :
    plainR p lo n M md = ⟨1, 0, 0, 0, 0⟩ ∨ (∃ rn, plainR p lo n M md = ⟨10, rn, 0, 0, md⟩) ∨ ∃ (N : Nat) (ra : Int), N ≤ M.length ∧ plainR p lo n M md = ⟨0, (N : Int), 1, ra, md⟩ ∧ bytesR p lo n ra = some (M.take N) := by
  obtain ⟨R, hR⟩ : ∃ R, plainR p lo n M md = R := ⟨_, rfl⟩
  have hc : R = more ∨ (∃ rn, R = ill rn md) ∨ R.e = 0 := by
    subst hR
    unfold plainR
    split
    · exact .inl rfl
    · split
      · split
        · exact .inl rfl
        · split
          · exact .inr (.inr rfl)
          · exact .inr (.inl ⟨_, rfl⟩)
      · split
        · exact .inr (.inr rfl)
        · exact .inr (.inl ⟨_, rfl⟩)
  rcases hc with rfl | ⟨rn, rfl⟩ | he
  · exact .inl hR
  · exact .inr (.inl ⟨rn, hR⟩)
  · obtain ⟨N, h1, h2, h3, h4, h5⟩ := back_plain p lo n hn hp M md R hR he
    refine .inr (.inr ⟨N, R.a, h2, ?_, h5⟩)
    rw [hR]
    obtain ⟨e, n', k, a, d⟩ := R
    simp only at he h1 h3 h4
    subst he h1 h3 h4
    rfl
theorem set_bare {k : Int} {n : Nat} {p low : Bool} (hf : fm k = some (n, p, false, low)) {u : Int} {B : List UInt8} (hb : bytesR p low n u = some B) : setR k 0 0 0 0 u = ⟨0, B, 0⟩ := by
  have hf0 : fitB false 0 0 0 0 = true := by decide
  simp only [setR, hf, hf0]
  simp [hb]
theorem set_none_bare {k : Int} {n : Nat} {p low : Bool} (hf : fm k = some (n, p, false, low)) {u : Int} (hb : bytesR p low n u = none) : setR k 0 0 0 0 u = ⟨11, [], 0⟩ := by
  have hf0 : fitB false 0 0 0 0 = true := by decide
  simp only [setR, hf, hf0]
  simp [hb]
theorem set_mode {k : Int} {n : Nat} {p : Bool} (hf : fm k = some (n, p, true, false)) (md : Int) (hm : md = 1 ∨ md = 2) {u : Int} {B : List UInt8} (hb : bytesR p (decide (md = 2)) n u = some B) : setR k md 0 0 0 u = ⟨0, B, md⟩ := by
  have h0 : fitB true md 0 0 0 = true := by rcases hm with rfl | rfl <;> decide
  have h1 : ¬ md = 0 := by omega
  simp only [setR, hf, h0]
  simp [hb, h1]
theorem set_fresh {k : Int} {n : Nat} {p : Bool} (hf : fm k = some (n, p, true, false)) {u : Int} {B : List UInt8} (hb : bytesR p false n u = some B) : setR k 0 0 0 0 u = ⟨0, unitB false n 65279 ++ B, 1⟩ := by
  have h0 : fitB true 0 0 0 0 = true := by decide
  simp only [setR, hf, h0]
  simp [hb]
theorem set_none_mode {k : Int} {n : Nat} {p : Bool} (hf : fm k = some (n, p, true, false)) (md : Int) (hm : md = 0 ∨ md = 1 ∨ md = 2) {u : Int} (hb : bytesR p (decide (md = 2)) n u = none) : setR k md 0 0 0 u = ⟨11, [], 0⟩ := by
  have h0 : fitB true md 0 0 0 = true := by rcases hm with rfl | rfl | rfl <;> decide
  simp only [setR, hf, h0]
  simp [hb]
theorem get_mode {k : Int} {n : Nat} {p : Bool} (hf : fm k = some (n, p, true, false)) (md : Int) (hm : md = 1 ∨ md = 2) (L : List UInt8) : getR k md 0 0 0 L = plainR p (decide (md = 2)) n L md := by
  have h0 : fitB true md 0 0 0 = true := by rcases hm with rfl | rfl <;> decide
  have h1 : ¬ md = 0 := by omega
  simp only [getR, hf, h0]
  simp [h1]
theorem get_fresh {k : Int} {n : Nat} {p : Bool} (hn : n = 2 ∨ n = 4) (hf : fm k = some (n, p, true, false)) (X : List UInt8) : getR k 0 0 0 0 (unitB false n 65279 ++ X) = ⟨0, (n : Int), 0, 0, 1⟩ := by
  have h0 : fitB true 0 0 0 0 = true := by decide
  have h1 : ¬ (unitB false n 65279 ++ X).length < n := by rw [List.length_append, unitB_length]; omega
  have h2 : num false n (unitB false n 65279 ++ X) = 65279 := num_unit false n hn 65279 (by omega) X
  simp only [getR, hf, h0]
  simp only [h2]
  simp only [Bool.true_eq_false, if_false, decide_true, Bool.and_true, if_true]
  rw [if_neg h1]
theorem drop_unit (n : Nat) (X : List UInt8) : (unitB false n 65279 ++ X).drop n = X := by
  rw [List.drop_append_of_le_length (by rw [unitB_length]; omega), List.drop_eq_nil_of_le (by rw [unitB_length]; omega), List.nil_append]
theorem fm_pair {k : Int} {n : Nat} {p m low : Bool} (hf : fm k = some (n, p, m, low)) : (n = 2 ∨ n = 4) ∧ (p = true → n = 2) ∧ (p = false → n ≠ 4 → 9 ≤ k) := by
  rcases fm_some hf with ⟨rfl, e⟩ | ⟨rfl, e⟩ | ⟨rfl, e⟩ | ⟨rfl, e⟩ | ⟨rfl, e⟩ | ⟨rfl, e⟩ | ⟨rfl, e⟩ | ⟨rfl, e⟩ <;> (injection e with e1 e2; injection e2 with e2 e3; subst e1 e2; simp)
theorem fm_bare (r : Nat) (h : r < 8) (h2 : r ≠ 2) (h5 : r ≠ 5) : ∃ n p low, fm (3 + (r : Int)) = some (n, p, false, low) := by
  have hr : r = 0 ∨ r = 1 ∨ r = 3 ∨ r = 4 ∨ r = 6 ∨ r = 7 := by omega
  rcases hr with rfl | rfl | rfl | rfl | rfl | rfl <;> exact ⟨_, _, _, rfl⟩
end Go.Proofs.Ytkfcciacoplgmaa.Wd
