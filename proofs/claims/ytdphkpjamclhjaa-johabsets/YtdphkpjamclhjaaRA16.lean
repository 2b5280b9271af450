/- The document's list and digit: walks. -/
import Derived.Test.YtdphkpjamclhjaaRL16
import Derived.Test.YtdphkpjamclhjaaBlk
import Derived.Lib.Strings
import Derived.BigQuiet
import Derived.Deep.QuietTactic
import Derived.Deep.Cut
import Derived.Deep.RegionHeld3
namespace Go.Proofs.Ytdphkpjamclhjaa.C16
open Go.ChangeShapes Go.WideShapes Go.ChangeAt Go.RowKit Go.Proofs.Ytdphkpjamclhjaa.Mem
set_option linter.unusedVariables false
set_option linter.unusedSimpArgs false

theorem tab_len {k : Int} (h : k ∈ kinds) : (tab k).length = 94 := by
  have : ∀ k ∈ kinds, (tab k).length = 94 := by decide +kernel
  exact this k h
theorem tab_small {k : Int} : ∀ x ∈ tab k, x ≤ 65535 := by
  by_cases h : k ∈ kinds
  · have : ∀ k ∈ kinds, ∀ x ∈ tab k, x ≤ 65535 := by decide +kernel
    exact this k h
  · simp only [kinds, List.mem_cons, List.not_mem_nil, or_false, not_or] at h
    obtain ⟨a1, a2, a3, a4, a5, a6, a7, a8, a9, a10, a11, a12, a13, a14⟩ := h
    simp [tab, a1, a2, a3, a4, a5, a6, a7, a8, a9, a10, a11, a12, a13, a14]
theorem tab_none {k : Int} (h : k ∉ kinds) : tab k = [] := by
  simp only [kinds, List.mem_cons, List.not_mem_nil, or_false, not_or] at h
  obtain ⟨a1, a2, a3, a4, a5, a6, a7, a8, a9, a10, a11, a12, a13, a14⟩ := h
  simp [tab, a1, a2, a3, a4, a5, a6, a7, a8, a9, a10, a11, a12, a13, a14]
theorem dig4_len (l : List Nat) : (dig4 l).length = 4 * l.length := by
  induction l with
  | nil => rfl
  | cons x l ih => simp only [dig4, List.flatMap_cons, List.length_append, List.length_cons] at ih ⊢; rw [ih]; simp [hex4]; omega
theorem dig4_at : ∀ (l : List Nat) (j : Nat) (hj : j < l.length) (i : Nat), i < 4 → (dig4 l)[4 * j + i]? = (hex4 l[j])[i]?
  | x :: l, 0, hj, i, hi => by
    simp only [dig4, List.flatMap_cons, Nat.mul_zero, Nat.zero_add, List.getElem_cons_zero]
    rw [List.getElem?_append_left (by simp [hex4]; omega)]
  | x :: l, j + 1, hj, i, hi => by
    have ih := dig4_at l j (by simpa using hj) i hi
    simp only [dig4, List.flatMap_cons, List.getElem_cons_succ] at ih ⊢
    rw [List.getElem?_append_right (by simp [hex4]; omega)]
    have : 4 * (j + 1) + i - (hex4 x).length = 4 * j + i := by simp [hex4]; omega
    rw [this]
    exact ih

/-- s[i] of a text. -/
theorem index_str {r : ByteArray} {i : Nat} {c : UInt8} (h : r[i]? = some c) (w : World) : (Instr.index 9 (.string r) (.int .i64 (i : Int))).run Try.prog w = .ok (.int .u8 (c.toNat : Int)) w := by
  simp [Instr.index, run_underlying Try.underlying9, asIntOf, h]
theorem bget (r : ByteArray) (i : Nat) : r[i]? = r.data.toList[i]? := by
  by_cases h : i < r.size
  · rw [getElem?_pos r i h, List.getElem?_eq_getElem (by exact h)]
    rfl
  · rw [getElem?_neg r i h, List.getElem?_eq_none (by show r.size ≤ i; omega)]
end Go.Proofs.Ytdphkpjamclhjaa.C16
