/- What the document's own Parse answers: the scalar whose writing a text is, or none. -/
import Derived.Test.YtdidchcinfbggaaRead
namespace Go.Proofs.Ytdidchcinfbggaa.Ucs
open Go.ChangeShapes Go.WideShapes Go.ChangeAt Go.RowKit

theorem dig_eq (c : UInt8) (n : Nat) (h : n < 16) (e : dig n = c) : dv c = n := by rw [← e, dv_dig n h]
theorem dv_none (c : UInt8) (h : ∀ j, j < 16 → dig j ≠ c) : dv c = -1 := by
  by_cases a : 0 ≤ dv c
  · have hl := dv_le c
    have hall : ∀ c : Fin 256, 0 ≤ dv (UInt8.ofNat c.val) → dig (dv (UInt8.ofNat c.val)).toNat = UInt8.ofNat c.val := by decide +kernel
    have hc := hall ⟨c.toNat, c.toNat_lt⟩
    simp only [UInt8.ofNat_toNat] at hc
    exact absurd (hc a) (h _ (by omega))
  · have := dv_ge c; omega

set_option maxHeartbeats 400000 in
theorem digit_ref (c : UInt8) (w : World) : Calls Try.prog 27 #[.int .u8 (c.toNat : Int)] w fun e w' => e = .returned (.int .i64 (dv c)) ∧ w' = w := by
  go_enter Try.func27, Try.ntmps27
  go_wp2
  go_loop [3] (fun i => ∃ k : Nat, k ≤ 16 ∧ i = .int .i64 k ∧ ∀ j, j < k → dig j ≠ c) (fun i => 16 - (intOf i).toNat)
  case atStart => exact ⟨0, by omega, rfl, fun j h => by omega⟩
  case round =>
    obtain ⟨k, hk, rfl, hn⟩ := hrel
    have HN : Hid (∀ j, j < k → dig j ≠ c) := hn
    clear hn
    by_cases hlt : k < 16
    · have ht := tab_get k
      by_cases he : dig k = c
      · have HV : Hid (dv c = k) := dig_eq c k hlt he
        have hq : (((dig k).toNat : Int) == (c.toNat : Int)) = true := by rw [he]; simp
        clear he
        go_wp2
        go_ret
        exact ⟨ret_int (by rw [HV.out]), rfl⟩
      · have hq : (((dig k).toNat : Int) == (c.toNat : Int)) = false := by
          rw [beq_eq_false_iff_ne]
          exact fun e => he (UInt8.toNat_inj.1 (by omega))
        have HX : Hid (dig k ≠ c) := he
        clear he
        go_wp2
        go_round
        case rel => exact ⟨k + 1, by omega, by go_num, fun j hj => by
          by_cases e : j = k
          · rw [e]; exact HX.out
          · exact HN.out j (by omega)⟩
        case measure => simp [intOf]; omega
    · have HV : Hid (dv c = -1) := dv_none c fun j hj => HN.out j (by omega)
      go_wp2
      go_ret
      exact ⟨ret_int (by rw [HV.out]), rfl⟩

theorem long_no {s : ByteArray} (h : 8 < s.size) (v : Int) : hex v ≠ s := by
  intro e
  cases hv : scB v
  · have b : hex v = ⟨#[]⟩ := by simp [hex, hv]
    have z : (⟨#[]⟩ : ByteArray).size = 0 := rfl
    rw [← e, b, z] at h
    omega
  · have := hex_size hv
    have := cnt_le v
    rw [e] at *
    omega
/-- The text's bytes from the third on, as far as the document's own Parse looks. -/
def part (s : ByteArray) (k : Nat) : List UInt8 := (s.data.toList.drop 2).take k
theorem part_snoc (s : ByteArray) (k : Nat) (h : k + 2 < s.size) : part s (k + 1) = part s k ++ [s[k + 2]] := by
  unfold part
  have hl : s.data.toList.length = s.size := rfl
  rw [List.take_succ_eq_append_getElem (by rw [List.length_drop]; omega), List.getElem_drop]
  congr 2
  show s.data.toList[2 + k]'_ = s.data.toList[k + 2]'_
  congr 1
  omega
theorem part_hex {u : Int} (hu : scB u = true) (k : Nat) (hk : cnt u ≤ k) : valFrom 0 (part (hex u) k) = u := by
  unfold part
  rw [hex_list hu]
  show valFrom 0 ((lowL (cnt u) u).take k) = u
  rw [List.take_of_length_le (by rw [lowL_length]; omega), val_low hu]

theorem pow_seven {n : Nat} (h : n ≤ 7) : (16 : Int) ^ n ≤ 16 ^ 7 := by
  by_cases e : n = 7
  · subst e; decide
  · rcases seven (k := n) (by omega) with e | e | e | e | e | e | e <;> subst e <;> decide
theorem pow_six {n : Nat} (h : n ≤ 6) : (16 : Int) ^ n ≤ 16 ^ 6 := by
  rcases seven (k := n) (by omega) with e | e | e | e | e | e | e <;> subst e <;> decide
theorem part_bd (s : ByteArray) (k : Nat) (h : k ≤ 7) : 0 ≤ valFrom 0 (part s k) ∧ valFrom 0 (part s k) < 268435456 := by
  have hb := valFrom_bd (part s k) 0 (by omega)
  have hlen : (part s k).length ≤ 7 := by unfold part; rw [List.length_take]; omega
  have hp := pow_seven hlen
  simp only [Int.zero_add, Int.one_mul] at hb
  exact ⟨hb.1, Int.lt_of_lt_of_le hb.2 (by simpa using hp)⟩
theorem part_lt (s : ByteArray) (k : Nat) (h : k ≤ 6) : valFrom 0 (part s k) < 16777216 := by
  have hb := valFrom_bd (part s k) 0 (by omega)
  have hlen : (part s k).length ≤ 6 := by unfold part; rw [List.length_take]; omega
  have hp := pow_six hlen
  simp only [Int.zero_add, Int.one_mul] at hb
  exact Int.lt_of_lt_of_le hb.2 (by simpa using hp)

theorem empty_list {s : ByteArray} (h : s.size = 0) : s.toList.isEmpty = true := by
  rw [ByteArray.toList_eq, List.isEmpty_iff_length_eq_zero]; exact h
theorem full_list {s : ByteArray} (h : s.size ≠ 0) : s.toList.isEmpty = false := by
  rw [ByteArray.toList_eq]
  cases e : s.data.toList with
  | nil => exact absurd (show s.data.toList.length = 0 by rw [e]; rfl) h
  | cons a l => rfl
theorem max_dv0 (c : UInt8) : (if 0 < dv c then dv c else 0) = dv0 c := by
  unfold dv0; split <;> split <;> omega
theorem ref_no {s : ByteArray} {v : Int} (hk : ∀ u, scB u = true → hex u = s → v = u) (h : 1114111 < v ∨ hex v ≠ s ∨ s.size = 0) : Reads s 0 false := by
  refine .inr ⟨rfl, rfl, fun u hu e => ?_⟩
  have hv := hk u hu e
  rcases h with h | h | h
  · have := scB_iff.1 hu; omega
  · rw [hv] at h; exact h e
  · have := hex_size hu; rw [e] at this; omega
theorem ref_yes {s : ByteArray} {v : Int} (h : hex v = s) (h0 : s.size ≠ 0) : Reads s v true := by
  refine .inl ⟨rfl, ?_, h⟩
  cases hc : scB v
  · have b : hex v = ⟨#[]⟩ := by simp [hex, hc]
    rw [h] at b
    exact absurd (by rw [b]; rfl) h0
  · rfl

set_option maxHeartbeats 1000000 in
theorem parse_ref (s : ByteArray) (w : World) (hs : s.size ≤ maxLen) : Calls Try.prog 23 #[.string s] w fun e w' => ∃ v ok, e = .returned (.tuple #[.int .i32 v, .bool ok]) ∧ Reads s v ok ∧ w' = w := by
  unfold maxLen at hs
  go_enter Try.func23, Try.ntmps23
  go_wp2
  go_loop [4, 5] (fun n i => ∃ j : Nat, 2 ≤ j ∧ j ≤ 9 ∧ (j ≤ s.size ∨ j = 2) ∧ i = .int .i64 j ∧ n = .int .i64 (valFrom 0 (part s (j - 2)))) (fun _ i => 9 - (intOf i).toNat)
  case atStart => exact ⟨2, by omega, by omega, .inr rfl, rfl, rfl⟩
  case round =>
    obtain ⟨j, hj2, hj9, hjs, rfl, rfl⟩ := hrel
    obtain ⟨b0, b1⟩ := part_bd s (j - 2) (by omega)
    by_cases c1 : j < s.size
    · by_cases c2 : j < 9
      · have b2 := part_lt s (j - 2) (by omega)
        have HT : Hid (valFrom 0 (part s (j + 1 - 2)) = 16 * valFrom 0 (part s (j - 2)) + dv0 s[j]) := by
          show _ = _
          have e : j + 1 - 2 = (j - 2) + 1 := by omega
          have e' : s[j - 2 + 2]'(by omega) = s[j] := by congr 1; omega
          rw [e, part_snoc s (j - 2) (by omega), valFrom_append, e']; rfl
        have hl := dv_le s[j]
        have hg := dv_ge s[j]
        generalize hv : valFrom 0 (part s (j - 2)) = v at *
        have HV : Hid (valFrom 0 (part s (j - 2)) = v) := hv
        clear hv
        go_wp2_with (go_at_call 27; refine (digit_ref _ _).mono ?_; rintro e wx ⟨rfl, rfl⟩)
        go_round
        case rel => exact ⟨j + 1, by omega, by omega, .inl (by omega), by go_num, by rw [HT.out, max_dv0]⟩
        case measure => simp [intOf]; omega
      · have HK : Hid (∀ u, scB u = true → hex u = s → valFrom 0 (part s (j - 2)) = u) := fun u hu e => by
          have := hex_size hu
          have := cnt_le u
          rw [e] at *
          omega
        generalize valFrom 0 (part s (j - 2)) = v at *
        by_cases k1 : 1114111 < v
        · have HZ : Hid (Reads s 0 false) := ref_no HK.out (.inl k1)
          go_wp2_with (go_at_call 17; refine (hexRef_any _ _).mono ?_; rintro e wx ⟨rfl, rfl⟩)
          go_ret2
          first | exact ⟨0, false, rfl, HZ.out, rfl⟩ | exact ⟨0, .inl ⟨rfl, HZ.out, rfl⟩⟩
        by_cases hx : hex v = s
        · have hq : ((hex v).toList == s.toList) = true := by rw [hx]; simp
          have hq' : ((hex v).toList != s.toList) = false := by rw [hx]; simp
          by_cases h0 : s.size = 0
          · have HZ : Hid (Reads s 0 false) := ref_no HK.out (.inr (.inr h0))
            have hm := empty_list h0
            clear hx h0
            go_wp2_with (go_at_call 17; refine (hexRef_any _ _).mono ?_; rintro e wx ⟨rfl, rfl⟩)
            go_ret2
            first | exact ⟨0, false, rfl, HZ.out, rfl⟩ | exact ⟨0, .inl ⟨rfl, HZ.out, rfl⟩⟩
          · have HZ : Hid (Reads s v true) := ref_yes hx h0
            have hm := full_list h0
            clear hx h0
            go_wp2_with (go_at_call 17; refine (hexRef_any _ _).mono ?_; rintro e wx ⟨rfl, rfl⟩)
            go_ret2
            exact ⟨v, true, rfl, HZ.out, rfl⟩
        · have HZ : Hid (Reads s 0 false) := ref_no HK.out (.inr (.inl hx))
          have hq : ((hex v).toList == s.toList) = false := by
            rw [beq_eq_false_iff_ne, ByteArray.toList_eq, ByteArray.toList_eq]
            exact fun e => hx (bytes_inj e)
          have hq' : ((hex v).toList != s.toList) = true := by simp only [bne, hq, Bool.not_false]
          clear hx
          go_wp2_with (go_at_call 17; refine (hexRef_any _ _).mono ?_; rintro e wx ⟨rfl, rfl⟩)
          go_ret2
          first | exact ⟨0, false, rfl, HZ.out, rfl⟩ | exact ⟨0, .inl ⟨rfl, HZ.out, rfl⟩⟩
    · have HK : Hid (∀ u, scB u = true → hex u = s → valFrom 0 (part s (j - 2)) = u) := fun u hu e => by
        have h1 := hex_size hu
        have h2 := cnt_ge u
        rw [← e]
        rw [e] at h1
        exact part_hex hu _ (by omega)
      generalize valFrom 0 (part s (j - 2)) = v at *
      by_cases k1 : 1114111 < v
      · have HZ : Hid (Reads s 0 false) := ref_no HK.out (.inl k1)
        go_wp2_with (go_at_call 17; refine (hexRef_any _ _).mono ?_; rintro e wx ⟨rfl, rfl⟩)
        go_ret2
        first | exact ⟨0, false, rfl, HZ.out, rfl⟩ | exact ⟨0, .inl ⟨rfl, HZ.out, rfl⟩⟩
      by_cases hx : hex v = s
      · have hq : ((hex v).toList == s.toList) = true := by rw [hx]; simp
        have hq' : ((hex v).toList != s.toList) = false := by rw [hx]; simp
        by_cases h0 : s.size = 0
        · have HZ : Hid (Reads s 0 false) := ref_no HK.out (.inr (.inr h0))
          have hm := empty_list h0
          clear hx h0
          go_wp2_with (go_at_call 17; refine (hexRef_any _ _).mono ?_; rintro e wx ⟨rfl, rfl⟩)
          go_ret2
          first | exact ⟨0, false, rfl, HZ.out, rfl⟩ | exact ⟨0, .inl ⟨rfl, HZ.out, rfl⟩⟩
        · have HZ : Hid (Reads s v true) := ref_yes hx h0
          have hm := full_list h0
          clear hx h0
          go_wp2_with (go_at_call 17; refine (hexRef_any _ _).mono ?_; rintro e wx ⟨rfl, rfl⟩)
          go_ret2
          exact ⟨v, true, rfl, HZ.out, rfl⟩
      · have HZ : Hid (Reads s 0 false) := ref_no HK.out (.inr (.inl hx))
        have hq : ((hex v).toList == s.toList) = false := by
          rw [beq_eq_false_iff_ne, ByteArray.toList_eq, ByteArray.toList_eq]
          exact fun e => hx (bytes_inj e)
        have hq' : ((hex v).toList != s.toList) = true := by simp only [bne, hq, Bool.not_false]
        clear hx
        go_wp2_with (go_at_call 17; refine (hexRef_any _ _).mono ?_; rintro e wx ⟨rfl, rfl⟩)
        go_ret2
        first | exact ⟨0, false, rfl, HZ.out, rfl⟩ | exact ⟨0, .inl ⟨rfl, HZ.out, rfl⟩⟩
end Go.Proofs.Ytdidchcinfbggaa.Ucs
