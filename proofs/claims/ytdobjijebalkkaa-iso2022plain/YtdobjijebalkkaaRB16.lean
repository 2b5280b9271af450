/- The document's Scalar of a row and a cell: a walk. -/
import Derived.Test.YtdobjijebalkkaaRA16
namespace Go.Proofs.Ytdobjijebalkkaa.C16
open Go.ChangeShapes Go.WideShapes Go.ChangeAt Go.RowKit Go.Proofs.Ytdobjijebalkkaa.Mem
set_option linter.unusedVariables false
set_option linter.unusedSimpArgs false

def I64 (k : Int) : Prop := -9223372036854775808 ≤ k ∧ k ≤ 9223372036854775807
def I32 (k : Int) : Prop := -2147483648 ≤ k ∧ k ≤ 2147483647
theorem gt {a b c : World} {row : Option Nat} (h : a.grownBy b row) (k : b.grownBy c row) : a.grownBy c row := ⟨k.os.trans h.os, k.tape.trans h.tape, k.output.trans h.output, Nat.le_trans h.size k.size, fun i hi hn => (k.block i (Nat.lt_of_lt_of_le hi h.size) hn).trans (h.block i hi hn)⟩
/-- What stands in a row's cell (from 0 on); what Scalar answers. -/
def cellR (k : Int) (j : Nat) : Nat := (tab k).getD j 0
def scP (k c : Int) : Option Nat := if k ∈ kinds ∧ 1 ≤ c ∧ c ≤ 94 then (if cellR k (c - 1).toNat = 65533 then none else some (cellR k (c - 1).toNat)) else none
theorem dig4_nil {l : List Nat} (h : dig4 l = []) : l = [] := by
  have := dig4_len l
  rw [h] at this
  exact List.length_eq_zero_iff.1 (by simp at this; omega)
/-- The list of a row that is listed. -/
theorem list_yes {k : Int} (hk : k ∈ kinds) (w : World) : Calls Try.prog 59 #[.int .i64 k] w fun e w' => (∃ s : ByteArray, e = .returned (.string s) ∧ s.size = 376 ∧ s.toList.isEmpty = false ∧ Hid (s.data.toList = dig4 (tab k))) ∧ w' = w :=
  (list_any k w).mono (by
    rintro e w' ⟨⟨s, rfl, hs⟩, rfl⟩
    have h1 : s.size = 376 := by
      show s.data.size = 376
      rw [← Array.length_toList, hs, dig4_len, tab_len hk]
    refine ⟨⟨s, rfl, h1, ?_, hs⟩, rfl⟩
    have e1 : s.toList = s.data.toList := ByteArray.toList_eq s
    rw [e1, hs]
    cases hd : dig4 (tab k) with
    | nil =>
      have h3 := dig4_nil hd
      have h4 := tab_len hk
      rw [h3] at h4
      simp at h4
    | cons x l => rfl)
theorem list_no {k : Int} (hk : k ∉ kinds) (w : World) : Calls Try.prog 59 #[.int .i64 k] w fun e w' => (∃ s : ByteArray, e = .returned (.string s) ∧ s.size = 0 ∧ s.toList.isEmpty = true) ∧ w' = w :=
  (list_any k w).mono (by
    rintro e w' ⟨⟨s, rfl, hs⟩, rfl⟩
    rw [tab_none hk] at hs
    have h1 : s.size = 0 := by
      show s.data.size = 0
      rw [← Array.length_toList, hs]
      rfl
    refine ⟨⟨s, rfl, h1, ?_⟩, rfl⟩
    have e1 : s.toList = s.data.toList := ByteArray.toList_eq s
    rw [e1, hs]
    rfl)
set_option maxRecDepth 100000 in
set_option maxHeartbeats 1000000 in
theorem refScalar_any (k c : Int) (hc : I64 c) (w : World) (R : Option Nat) (hR : Hid (scP k c = R)) : Calls Try.prog 53 #[.int .i64 k, .int .i64 c] w fun e w' => e = .returned (.tuple #[.int .i32 ((R.getD 0 : Nat) : Int), .bool R.isSome]) ∧ w.grownBy w' none := by
  unfold I64 at hc
  obtain ⟨hc1, hc2⟩ := hc
  by_cases hk : k ∈ kinds
  · have hl := Hid.mk' (fun w => list_yes hk w)
    by_cases h1 : c < 1
    · have : R = none := by rw [← hR.out, scP, if_neg (by omega)]
      subst this
      clear hR
      go_enter Try.func53, Try.ntmps53
      go_wp2_with (go_at_call 59; refine (hl.out _).mono ?_; rintro e w1 ⟨⟨s, rfl, hsz, hse, hs0⟩, rfl⟩)
      go_ret2
      exact ⟨rfl, ⟨rfl, rfl, rfl, Nat.le_refl _, fun _ _ _ => rfl⟩⟩
    · by_cases h2 : 94 < c
      · have : R = none := by rw [← hR.out, scP, if_neg (by omega)]
        subst this
        clear hR
        have h1' : decide (c < 1) = false := decide_eq_false h1
        go_enter Try.func53, Try.ntmps53
        go_wp2_with (go_at_call 59; refine (hl.out _).mono ?_; rintro e w1 ⟨⟨s, rfl, hsz, hse, hs0⟩, rfl⟩)
        go_ret2
        exact ⟨rfl, ⟨rfl, rfl, rfl, Nat.le_refl _, fun _ _ _ => rfl⟩⟩
      · obtain ⟨j, hj⟩ : ∃ j : Nat, c = (j : Int) + 1 := ⟨(c - 1).toNat, by omega⟩
        have hj94 : j < 94 := by omega
        have hjl : j < (tab k).length := by rw [tab_len hk]; exact hj94
        obtain ⟨p, hp⟩ : ∃ p, 4 * j = p := ⟨_, rfl⟩
        have e1 : 4 * (c - 1) = (p : Int) := by omega
        have hp2 : p ≤ 372 := by omega
        obtain ⟨n, hn⟩ : ∃ n, Hid ((tab k)[j]? = some n) := ⟨_, Hid.mk' (List.getElem?_eq_getElem hjl)⟩
        have hn2 : n ≤ 65535 := tab_small (k := k) n (List.mem_of_getElem? hn.out)
        have hR2 : Hid ((if n = 65533 then none else some n) = R) := Hid.mk' (by
          have e2 : cellR k (c - 1).toNat = n := by
            rw [hj, show ((j : Int) + 1 - 1).toNat = j by omega, cellR, List.getD_eq_getElem?_getD, hn.out]
            rfl
          have hcond : k ∈ kinds ∧ 1 ≤ c ∧ c ≤ 94 := ⟨hk, by omega, by omega⟩
          rw [← hR.out, scP, if_pos hcond, e2])
        have hjl0 := Hid.mk' hjl
        have hp0 := Hid.mk' hp
        have hk0 := Hid.mk' hk
        have hp3 : (p : Int) ≤ 376 := by omega
        have hp4 : (0 : Int) ≤ (p : Int) := by omega
        have hp5 : p ≤ 376 := by omega
        have h1' : decide (c < 1) = false := decide_eq_false h1
        have h2' : decide (94 < c) = false := decide_eq_false h2
        clear hR hk hjl hp hj hj94
        go_enter Try.func53, Try.ntmps53
        go_upto_region 3 with (go_at_call 59; refine (hl.out _).mono ?_; rintro e w1 ⟨⟨s1, rfl, hsz1, hse1, hs1⟩, rfl⟩)
        clear hsz1 hse1 hs1
        go_upto_region 4 with (go_at_call 59; refine (hl.out _).mono ?_; rintro e w1 ⟨⟨s, rfl, hsz, hse, hs0⟩, rfl⟩)
        clear hse
        have hr : Hid ((s.extract p 376).data.toList = (dig4 (tab k)).drop p) := Hid.mk' (by
          rw [Lib.extract_data, hs0.out, List.take_of_length_le (by rw [List.length_drop, dig4_len, tab_len hk0.out]; omega)])
        have hrs : (s.extract p 376).size = 376 - p := by rw [ByteArray.size_extract, hsz]; omega
        generalize s.extract p 376 = r at *
        have hc : ∀ i : Nat, i < 4 → r[i]? = (hex4 n)[i]? := by
          intro i hi
          have e2 := dig4_at (tab k) j hjl0.out i hi
          rw [(List.getElem?_eq_some_iff.1 hn.out).2] at e2
          rw [← e2, bget, hr.out, List.getElem?_drop, hp0.out]
        obtain ⟨d0, hd0⟩ : ∃ d, n / 4096 % 16 = d := ⟨_, rfl⟩
        obtain ⟨d1, hd1⟩ : ∃ d, n / 256 % 16 = d := ⟨_, rfl⟩
        obtain ⟨d2, hd2⟩ : ∃ d, n / 16 % 16 = d := ⟨_, rfl⟩
        obtain ⟨d3, hd3⟩ : ∃ d, n % 16 = d := ⟨_, rfl⟩
        have g0 : r[0]? = some (dg d0) := by rw [hc 0 (by omega), ← hd0]; rfl
        have g1 : r[1]? = some (dg d1) := by rw [hc 1 (by omega), ← hd1]; rfl
        have g2 : r[2]? = some (dg d2) := by rw [hc 2 (by omega), ← hd2]; rfl
        have g3 : r[3]? = some (dg d3) := by rw [hc 3 (by omega), ← hd3]; rfl
        have k0 := Hid.mk' (fun w => digit_any d0 (by omega) w)
        have k1 := Hid.mk' (fun w => digit_any d1 (by omega) w)
        have k2 := Hid.mk' (fun w => digit_any d2 (by omega) w)
        have k3 := Hid.mk' (fun w => digit_any d3 (by omega) w)
        have l0 : d0 ≤ 15 := by omega
        have l1 : d1 ≤ 15 := by omega
        have l2 : d2 ≤ 15 := by omega
        have l3 : d3 ≤ 15 := by omega
        have hsum : 4096 * (d0 : Int) + 256 * (d1 : Int) + 16 * (d2 : Int) + (d3 : Int) = (n : Int) := by omega
        clear hc hd0 hd1 hd2 hd3
        generalize dg d0 = b0 at *
        generalize dg d1 = b1 at *
        generalize dg d2 = b2 at *
        generalize dg d3 = b3 at *
        have i0 := index_str (r := r) (i := 0) g0
        have i1 := index_str (r := r) (i := 1) g1
        have i2 := index_str (r := r) (i := 2) g2
        have i3 := index_str (r := r) (i := 3) g3
        simp only [Int.natCast_zero, Int.natCast_one, Int.cast_ofNat_Int, Int.ofNat_eq_natCast] at i0 i1 i2 i3
        clear h1' h2' h1 h2 hc1 hc2 e1
        go_quiet (first
          | (go_at_call_of 84 (Value.int IntKind.u8 (b0.toNat : Int)); exact Calls.quiet_of_same (k0.out _))
          | (go_at_call_of 84 (Value.int IntKind.u8 (b1.toNat : Int)); exact Calls.quiet_of_same (k1.out _))
          | (go_at_call_of 84 (Value.int IntKind.u8 (b2.toNat : Int)); exact Calls.quiet_of_same (k2.out _))
          | (go_at_call_of 84 (Value.int IntKind.u8 (b3.toNat : Int)); exact Calls.quiet_of_same (k3.out _)))
        by_cases h9 : n = 65533
        · have : R = none := by rw [← hR2.out, if_pos h9]
          subst this
          have h9' : 4096 * (d0 : Int) + 256 * (d1 : Int) + 16 * (d2 : Int) + (d3 : Int) = 65533 := by omega
          clear hsum
          go_wp2
          go_ret2
          exact ⟨rfl, ⟨rfl, rfl, rfl, Nat.le_refl _, fun _ _ _ => rfl⟩⟩
        · have : R = some n := by rw [← hR2.out, if_neg h9]
          subst this
          have h9' : (4096 * (d0 : Int) + 256 * (d1 : Int) + 16 * (d2 : Int) + (d3 : Int) == 65533) = false := by simp; omega
          have h9'' : ¬ (n : Int) = 65533 := by omega
          go_wp2
          go_ret2
          refine ⟨?_, ⟨rfl, rfl, rfl, Nat.le_refl _, fun _ _ _ => rfl⟩⟩
          simp only [Option.getD_some, Option.isSome_some, ← hsum]
          first | rfl | (congr 4; go_num)
  · have hl := Hid.mk' (fun w => list_no hk w)
    have : R = none := by rw [← hR.out, scP, if_neg (fun h => hk h.1)]
    subst this
    clear hR hk
    go_enter Try.func53, Try.ntmps53
    go_wp2_with (go_at_call 59; refine (hl.out _).mono ?_; rintro e w1 ⟨⟨s, rfl, hsz, hse⟩, rfl⟩)
    go_ret2
    exact ⟨rfl, ⟨rfl, rfl, rfl, Nat.le_refl _, fun _ _ _ => rfl⟩⟩
end Go.Proofs.Ytdobjijebalkkaa.C16
