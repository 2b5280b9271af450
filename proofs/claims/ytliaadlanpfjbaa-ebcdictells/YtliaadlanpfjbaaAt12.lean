/- What stands for a byte: the document's, walks. -/
import Derived.Test.YtliaadlanpfjbaaLi12
import Derived.Test.YtliaadlanpfjbaaBlk
import Derived.Lib.Strings
import Derived.BigQuiet
import Derived.Deep.QuietTactic
import Derived.Deep.Cut
import Derived.Deep.RegionHeld3
namespace Go.Proofs.Ytliaadlanpfjbaa.C12
open Go.ChangeShapes Go.WideShapes Go.ChangeAt Go.RowKit Go.Proofs.Ytliaadlanpfjbaa.Mem
set_option linter.unusedVariables false
set_option linter.unusedSimpArgs false

theorem list_any (k : Int) (w : World) : Calls Try.prog 21 #[.int .i64 k] w fun e w' => (∃ s : ByteArray, e = .returned (.string s) ∧ s.data.toList = dig4 (tab k)) ∧ w' = w := by
  by_cases h : k ∈ kinds
  · have gen : ∀ k ∈ kinds, Calls Try.prog 21 #[.int .i64 k] w fun e w' => (∃ s : ByteArray, e = .returned (.string s) ∧ s.data.toList = dig4 (tab k)) ∧ w' = w := by
      intro k hk
      simp only [kinds, List.mem_cons, List.not_mem_nil, or_false] at hk
      rcases hk with rfl | rfl | rfl
      · exact list70 w
      · exact list71 w
      · exact list72 w
    exact gen k h
  · simp only [kinds, List.mem_cons, List.not_mem_nil, or_false, not_or] at h
    obtain ⟨a1, a2, a3⟩ := h
    refine (list_none k w a1 a2 a3).mono ?_
    rintro e w' ⟨rfl, rfl⟩
    refine ⟨⟨_, rfl, ?_⟩, rfl⟩
    simp [tab, a1, a2, a3, dig4]
theorem tab_len {k : Int} (h : k ∈ kinds) : (tab k).length = 256 := by
  have : ∀ k ∈ kinds, (tab k).length = 256 := by decide +kernel
  exact this k h
theorem tab_small {k : Int} : ∀ x ∈ tab k, x ≤ 65533 := by
  by_cases h : k ∈ kinds
  · have : ∀ k ∈ kinds, ∀ x ∈ tab k, x ≤ 65533 := by decide +kernel
    exact this k h
  · simp only [kinds, List.mem_cons, List.not_mem_nil, or_false, not_or] at h
    obtain ⟨a1, a2, a3⟩ := h
    simp [tab, a1, a2, a3]
theorem tab_none {k : Int} (h : k ∉ kinds) : tab k = [] := by
  simp only [kinds, List.mem_cons, List.not_mem_nil, or_false, not_or] at h
  obtain ⟨a1, a2, a3⟩ := h
  simp [tab, a1, a2, a3]
theorem dig4_len (l : List Nat) : (dig4 l).length = 4 * l.length := by
  induction l with
  | nil => rfl
  | cons x l ih => simp only [dig4, List.flatMap_cons, List.length_append, List.length_cons] at ih ⊢; rw [ih]; simp [hex4]; omega
theorem dig4_at : ∀ (l : List Nat) (j : Nat) (hj : j < l.length) (i : Nat), i < 4 → (dig4 l)[4 * j + i]? = (hex4 l[j])[i]?
  | x :: l, 0, hj, i, hi => by
    simp only [dig4, List.flatMap_cons, Nat.mul_zero, Nat.zero_add, List.getElem_cons_zero]
    rw [List.getElem?_append_left (by simp [hex4]; omega)]
  | x :: l, j + 1, hj, i, hi => by
    have ih := dig4_at l j (by simpa using hj) i hi
    simp only [dig4, List.flatMap_cons, List.getElem_cons_succ] at ih ⊢
    rw [List.getElem?_append_right (by simp [hex4]; omega)]
    have : 4 * (j + 1) + i - (hex4 x).length = 4 * j + i := by simp [hex4]; omega
    rw [this]
    exact ih

set_option maxRecDepth 100000 in
set_option maxHeartbeats 400000 in
theorem digit_any (d : Nat) (h : d < 16) (w : World) : Calls Try.prog 25 #[.int .u8 ((dg d).toNat : Int)] w fun e w' => e = .returned (.int .i32 (d : Int)) ∧ w' = w := by
  have gen : ∀ d : Fin 16, Calls Try.prog 25 #[.int .u8 ((dg d).toNat : Int)] w fun e w' => e = .returned (.int .i32 ((d : Nat) : Int)) ∧ w' = w := by
    intro d
    have hd : ((dg d).toNat : Int) = if (d : Nat) < 10 then 48 + ((d : Nat) : Int) else 55 + ((d : Nat) : Int) := by
      revert d; decide
    obtain ⟨d, hlt⟩ := d
    simp only at hd ⊢
    rw [hd]
    clear hd
    by_cases h10 : d < 10
    · rw [if_pos h10]
      have c1 : ¬ (65 : Int) ≤ 48 + (d : Int) := by omega
      go_enter Try.func25, Try.ntmps25
      go_wp2
      go_ret
      refine ⟨?_, rfl⟩
      first | rfl | (congr 2; go_num)
    · rw [if_neg h10]
      have c1 : (65 : Int) ≤ 55 + (d : Int) := by omega
      go_enter Try.func25, Try.ntmps25
      go_wp2
      go_ret
      refine ⟨?_, rfl⟩
      first | rfl | (congr 2; go_num)
  exact gen ⟨d, h⟩
/-- What stands for a byte. -/
def atR (k : Int) (b : Nat) : Nat := (tab k).getD b 0

/-- s[i] of a text. -/
theorem index_str {r : ByteArray} {i : Nat} {c : UInt8} (h : r[i]? = some c) (w : World) : (Instr.index 9 (.string r) (.int .i64 (i : Int))).run Try.prog w = .ok (.int .u8 (c.toNat : Int)) w := by
  simp [Instr.index, run_underlying Try.underlying9, asIntOf, h]
theorem bget (r : ByteArray) (i : Nat) : r[i]? = r.data.toList[i]? := by
  by_cases h : i < r.size
  · rw [getElem?_pos r i h, List.getElem?_eq_getElem (by exact h)]
    rfl
  · rw [getElem?_neg r i h, List.getElem?_eq_none (by show r.size ≤ i; omega)]
set_option maxRecDepth 100000 in
set_option maxHeartbeats 1000000 in
theorem at_any (k : Int) (hk : k ∈ kinds) (b : Nat) (hb : b < 256) (w : World) : Calls Try.prog 20 #[.int .i64 k, .int .i64 (b : Int)] w fun e w' => e = .returned (.int .i32 (atR k b : Int)) ∧ w.grownBy w' none := by
  obtain ⟨j, hj⟩ : ∃ j, b = j := ⟨b, rfl⟩
  have hj96 : j < 256 := by omega
  have hjl : j < (tab k).length := by rw [tab_len hk]; exact hj96
  have e1 : 4 * (b : Int) = ((4 * j : Nat) : Int) := by omega
  obtain ⟨p, hp⟩ : ∃ p, 4 * j = p := ⟨_, rfl⟩
  rw [hp] at e1
  have hp2 : p ≤ 1020 := by omega
  have hk0 := Hid.mk' hk
  have hl : Hid (∀ w : World, Calls Try.prog 21 #[.int .i64 k] w fun e w' => (∃ s : ByteArray, e = .returned (.string s) ∧ s.size = 1024 ∧ Hid (s.data.toList = dig4 (tab k))) ∧ w' = w) := Hid.mk' (fun w => (list_any k w).mono (by rintro e w' ⟨⟨s, rfl, hs⟩, rfl⟩; exact ⟨⟨s, rfl, by show s.data.toList.length = 1024; rw [hs, dig4_len, tab_len hk], Hid.mk' hs⟩, rfl⟩))
  have hjl0 := Hid.mk' hjl
  have hp0 := Hid.mk' hp
  have hj0 := Hid.mk' hj
  have hp3 : (p : Int) ≤ 1024 := by omega
  have hp4 : (0 : Int) ≤ (p : Int) := by omega
  have hp5 : p ≤ 1024 := by omega
  clear hk hjl hp hj hj96
  go_enter Try.func20, Try.ntmps20
  go_upto_region 2 with (go_at_call 21; refine (hl.out _).mono ?_; rintro e w1 ⟨⟨s, rfl, hsz, hs0⟩, rfl⟩)
  have hr : Hid ((s.extract p 1024).data.toList = (dig4 (tab k)).drop p) := Hid.mk' (by
    rw [Lib.extract_data, hs0.out, List.take_of_length_le (by rw [List.length_drop, dig4_len, tab_len hk0.out]; omega)])
  have hrs : (s.extract p 1024).size = 1024 - p := by rw [ByteArray.size_extract, hsz]; omega
  generalize s.extract p 1024 = r at *
  obtain ⟨n, hn⟩ : ∃ n, Hid ((tab k)[j]'hjl0.out = n) := ⟨_, Hid.mk' rfl⟩
  have hn2 : n ≤ 65533 := tab_small (k := k) n (by rw [← hn.out]; exact List.getElem_mem _)
  have hat : atR k b = n := by
    unfold atR
    rw [hj0.out, List.getD_eq_getElem?_getD, List.getElem?_eq_getElem hjl0.out, hn.out]
    rfl
  have hc : ∀ i : Nat, i < 4 → r[i]? = (hex4 n)[i]? := by
    intro i hi
    have e2 := dig4_at (tab k) j hjl0.out i hi
    rw [hn.out] at e2
    rw [← e2, bget, hr.out, List.getElem?_drop, hp0.out]
  obtain ⟨d0, hd0⟩ : ∃ d, n / 4096 % 16 = d := ⟨_, rfl⟩
  obtain ⟨d1, hd1⟩ : ∃ d, n / 256 % 16 = d := ⟨_, rfl⟩
  obtain ⟨d2, hd2⟩ : ∃ d, n / 16 % 16 = d := ⟨_, rfl⟩
  obtain ⟨d3, hd3⟩ : ∃ d, n % 16 = d := ⟨_, rfl⟩
  have g0 : r[0]? = some (dg d0) := by rw [hc 0 (by omega), ← hd0]; rfl
  have g1 : r[1]? = some (dg d1) := by rw [hc 1 (by omega), ← hd1]; rfl
  have g2 : r[2]? = some (dg d2) := by rw [hc 2 (by omega), ← hd2]; rfl
  have g3 : r[3]? = some (dg d3) := by rw [hc 3 (by omega), ← hd3]; rfl
  have k0 := Hid.mk' (fun w => digit_any d0 (by omega) w)
  have k1 := Hid.mk' (fun w => digit_any d1 (by omega) w)
  have k2 := Hid.mk' (fun w => digit_any d2 (by omega) w)
  have k3 := Hid.mk' (fun w => digit_any d3 (by omega) w)
  have l0 : d0 ≤ 15 := by omega
  have l1 : d1 ≤ 15 := by omega
  have l2 : d2 ≤ 15 := by omega
  have l3 : d3 ≤ 15 := by omega
  have hsum : 4096 * (d0 : Int) + 256 * (d1 : Int) + 16 * (d2 : Int) + (d3 : Int) = (n : Int) := by omega
  have hat0 := Hid.mk' hat
  clear hc hd0 hd1 hd2 hd3 hat
  generalize dg d0 = b0 at *
  generalize dg d1 = b1 at *
  generalize dg d2 = b2 at *
  generalize dg d3 = b3 at *
  have i0 := index_str (r := r) (i := 0) g0
  have i1 := index_str (r := r) (i := 1) g1
  have i2 := index_str (r := r) (i := 2) g2
  have i3 := index_str (r := r) (i := 3) g3
  simp only [Int.natCast_zero, Int.natCast_one, Int.cast_ofNat_Int, Int.ofNat_eq_natCast] at i0 i1 i2 i3
  go_quiet (first
    | (go_at_call_of 25 (Value.int IntKind.u8 (b0.toNat : Int)); exact Calls.quiet_of_same (k0.out _))
    | (go_at_call_of 25 (Value.int IntKind.u8 (b1.toNat : Int)); exact Calls.quiet_of_same (k1.out _))
    | (go_at_call_of 25 (Value.int IntKind.u8 (b2.toNat : Int)); exact Calls.quiet_of_same (k2.out _))
    | (go_at_call_of 25 (Value.int IntKind.u8 (b3.toNat : Int)); exact Calls.quiet_of_same (k3.out _)))
  go_wp2
  go_ret
  refine ⟨?_, ⟨rfl, rfl, rfl, Nat.le_refl _, fun _ _ _ => rfl⟩⟩
  rw [hat0.out, ← hsum]
  first | rfl | (congr 2; go_num)
end Go.Proofs.Ytliaadlanpfjbaa.C12
