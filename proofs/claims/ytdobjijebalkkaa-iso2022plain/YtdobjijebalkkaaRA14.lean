/- The document's list and digit: walks. -/
import Derived.Test.YtdobjijebalkkaaRL14
import Derived.Test.YtdobjijebalkkaaBlk
import Derived.Lib.Strings
import Derived.BigQuiet
import Derived.Deep.QuietTactic
import Derived.Deep.Cut
import Derived.Deep.RegionHeld3
namespace Go.Proofs.Ytdobjijebalkkaa.C14
open Go.ChangeShapes Go.WideShapes Go.ChangeAt Go.RowKit Go.Proofs.Ytdobjijebalkkaa.Mem
set_option linter.unusedVariables false
set_option linter.unusedSimpArgs false

theorem list_any (k : Int) (w : World) : Calls Try.prog 48 #[.int .i64 k] w fun e w' => (∃ s : ByteArray, e = .returned (.string s) ∧ s.data.toList = dig4 (tab k)) ∧ w' = w := by
  by_cases h : k ∈ kinds
  · have gen : ∀ k ∈ kinds, Calls Try.prog 48 #[.int .i64 k] w fun e w' => (∃ s : ByteArray, e = .returned (.string s) ∧ s.data.toList = dig4 (tab k)) ∧ w' = w := by
      intro k hk
      simp only [kinds, List.mem_cons, List.not_mem_nil, or_false] at hk
      rcases hk with rfl | rfl | rfl | rfl | rfl | rfl | rfl | rfl | rfl
      · exact list1 w
      · exact list2 w
      · exact list3 w
      · exact list4 w
      · exact list5 w
      · exact list6 w
      · exact list7 w
      · exact list8 w
      · exact list16 w
    exact gen k h
  · simp only [kinds, List.mem_cons, List.not_mem_nil, or_false, not_or] at h
    obtain ⟨a1, a2, a3, a4, a5, a6, a7, a8, a9⟩ := h
    refine (list_none k w a1 a2 a3 a4 a5 a6 a7 a8 a9).mono ?_
    rintro e w' ⟨rfl, rfl⟩
    refine ⟨⟨_, rfl, ?_⟩, rfl⟩
    simp [tab, a1, a2, a3, a4, a5, a6, a7, a8, a9, dig4]
theorem tab_len {k : Int} (h : k ∈ kinds) : (tab k).length = 94 := by
  have : ∀ k ∈ kinds, (tab k).length = 94 := by decide +kernel
  exact this k h
theorem tab_small {k : Int} : ∀ x ∈ tab k, x ≤ 65535 := by
  by_cases h : k ∈ kinds
  · have : ∀ k ∈ kinds, ∀ x ∈ tab k, x ≤ 65535 := by decide +kernel
    exact this k h
  · simp only [kinds, List.mem_cons, List.not_mem_nil, or_false, not_or] at h
    obtain ⟨a1, a2, a3, a4, a5, a6, a7, a8, a9⟩ := h
    simp [tab, a1, a2, a3, a4, a5, a6, a7, a8, a9]
theorem tab_none {k : Int} (h : k ∉ kinds) : tab k = [] := by
  simp only [kinds, List.mem_cons, List.not_mem_nil, or_false, not_or] at h
  obtain ⟨a1, a2, a3, a4, a5, a6, a7, a8, a9⟩ := h
  simp [tab, a1, a2, a3, a4, a5, a6, a7, a8, a9]
theorem dig4_len (l : List Nat) : (dig4 l).length = 4 * l.length := by
  induction l with
  | nil => rfl
  | cons x l ih => simp only [dig4, List.flatMap_cons, List.length_append, List.length_cons] at ih ⊢; rw [ih]; simp [hex4]; omega
theorem dig4_at : ∀ (l : List Nat) (j : Nat) (hj : j < l.length) (i : Nat), i < 4 → (dig4 l)[4 * j + i]? = (hex4 l[j])[i]?
  | x :: l, 0, hj, i, hi => by
    simp only [dig4, List.flatMap_cons, Nat.mul_zero, Nat.zero_add, List.getElem_cons_zero]
    rw [List.getElem?_append_left (by simp [hex4]; omega)]
  | x :: l, j + 1, hj, i, hi => by
    have ih := dig4_at l j (by simpa using hj) i hi
    simp only [dig4, List.flatMap_cons, List.getElem_cons_succ] at ih ⊢
    rw [List.getElem?_append_right (by simp [hex4]; omega)]
    have : 4 * (j + 1) + i - (hex4 x).length = 4 * j + i := by simp [hex4]; omega
    rw [this]
    exact ih

set_option maxRecDepth 100000 in
set_option maxHeartbeats 400000 in
theorem digit_any (d : Nat) (h : d < 16) (w : World) : Calls Try.prog 60 #[.int .u8 ((dg d).toNat : Int)] w fun e w' => e = .returned (.int .i32 (d : Int)) ∧ w' = w := by
  have gen : ∀ d : Fin 16, Calls Try.prog 60 #[.int .u8 ((dg d).toNat : Int)] w fun e w' => e = .returned (.int .i32 ((d : Nat) : Int)) ∧ w' = w := by
    intro d
    have hd : ((dg d).toNat : Int) = if (d : Nat) < 10 then 48 + ((d : Nat) : Int) else 55 + ((d : Nat) : Int) := by
      revert d; decide
    obtain ⟨d, hlt⟩ := d
    simp only at hd ⊢
    rw [hd]
    clear hd
    by_cases h10 : d < 10
    · rw [if_pos h10]
      have c1 : ¬ (65 : Int) ≤ 48 + (d : Int) := by omega
      go_enter Try.func60, Try.ntmps60
      go_wp2
      go_ret
      refine ⟨?_, rfl⟩
      first | rfl | (congr 2; go_num)
    · rw [if_neg h10]
      have c1 : (65 : Int) ≤ 55 + (d : Int) := by omega
      go_enter Try.func60, Try.ntmps60
      go_wp2
      go_ret
      refine ⟨?_, rfl⟩
      first | rfl | (congr 2; go_num)
  exact gen ⟨d, h⟩
/-- s[i] of a text. -/
theorem index_str {r : ByteArray} {i : Nat} {c : UInt8} (h : r[i]? = some c) (w : World) : (Instr.index 9 (.string r) (.int .i64 (i : Int))).run Try.prog w = .ok (.int .u8 (c.toNat : Int)) w := by
  simp [Instr.index, run_underlying Try.underlying9, asIntOf, h]
theorem bget (r : ByteArray) (i : Nat) : r[i]? = r.data.toList[i]? := by
  by_cases h : i < r.size
  · rw [getElem?_pos r i h, List.getElem?_eq_getElem (by exact h)]
    rfl
  · rw [getElem?_neg r i h, List.getElem?_eq_none (by show r.size ≤ i; omega)]
end Go.Proofs.Ytdobjijebalkkaa.C14
