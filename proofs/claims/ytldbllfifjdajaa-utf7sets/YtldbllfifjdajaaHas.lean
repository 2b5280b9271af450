/- strings.ContainsRune over texts of ASCII, and what the document's own search answers: walks. -/
import Derived.Test.YtldbllfifjdajaaIdx
namespace Go.Proofs.Ytldbllfifjdajaa.Sv
open Go.ChangeShapes Go.WideShapes Go.ChangeAt Go.RowKit Go.Proofs.Ytldbllfifjdajaa.Mem Go.Proofs.Ytldbllfifjdajaa.Ucs
set_option linter.unusedVariables false
set_option linter.unusedSimpArgs false

theorem valid_sc {u : Int} (h : scB u = true) : Utf8.valid u = true := by
  have := scB_iff.1 h
  simp only [Utf8.valid, Bool.and_eq_true, decide_eq_true_eq, Bool.or_eq_true, Bool.not_eq_true', decide_eq_false_iff_not]
  omega
theorem cont_hi (n : Nat) : 128 ≤ (UInt8.ofNat (128 + n % 64)).toNat := by
  rw [UInt8.toNat_ofNat', Nat.mod_eq_of_lt (by omega)]; omega
theorem enc_high {u : Int} (h : 128 ≤ u) (hs : scB u = true) :
    (∃ x y : UInt8, Utf8.encode u = ⟨#[x, y]⟩ ∧ 128 ≤ y.toNat) ∨ (∃ x z y : UInt8, Utf8.encode u = ⟨#[x, z, y]⟩ ∧ 128 ≤ y.toNat) ∨ (∃ x z v y : UInt8, Utf8.encode u = ⟨#[x, z, v, y]⟩ ∧ 128 ≤ y.toNat) := by
  have hv := valid_sc hs
  unfold Utf8.encode
  rw [hv]
  simp only [if_true]
  rw [if_neg (by omega)]
  split
  · exact .inl ⟨_, _, rfl, cont_hi _⟩
  · split
    · exact .inr (.inl ⟨_, _, _, rfl, cont_hi _⟩)
    · exact .inr (.inr ⟨_, _, _, _, rfl, cont_hi _⟩)
theorem enc_low {u : Int} (h0 : 0 ≤ u) (h1 : u < 128) : Utf8.encode u = str [u.toNat.toUInt8] := by
  have hs : scB u = true := scB_pos h0 (by omega) (by omega)
  unfold Utf8.encode
  rw [valid_sc hs]
  simp only [if_true]
  rw [if_pos (by omega)]
  rfl
theorem rune_high (s : ByteArray) (hs : ∀ b ∈ s.data.toList, b.toNat < 128) (hz : s.size ≤ 1000) (hz5 : 5 ≤ s.size) (u : Int) (hu : 128 ≤ u) (hsc : scB u = true) (w : World) : Calls Try.prog 25 #[.string s, .int .i32 u] w fun e w' => e = .returned (.int .i64 (-1)) ∧ w.grownBy w' none := by
  by_cases hf : u = 65533
  · subst hf; exact rune_fffd s hs hz w
  · rcases enc_high hu hsc with ⟨x, y, he, hy⟩ | ⟨x, z, y, he, hy⟩ | ⟨x, z, v, y, he, hy⟩
    · exact rune_two s hs hz hz5 u hu hf hsc x y he hy w
    · exact rune_three s hs hz hz5 u hu hf hsc x z y he hy w
    · exact rune_four s hs hz hz5 u hu hf hsc x z v y he hy w
set_option maxRecDepth 100000 in
theorem contains_any (s : ByteArray) (hs : ∀ b ∈ s.data.toList, b.toNat < 128) (hz : s.size ≤ 1000) (hz5 : 5 ≤ s.size) (u : Int) (hsc : scB u = true) (w : World) (t : Bool) (ht : hasB s.data.toList u = t) : Calls Try.prog 13 #[.string s, .int .i32 u] w fun e w' => e = .returned (.bool t) ∧ w.grownBy w' none := by
  have Hs : Hid (∀ b ∈ s.data.toList, b.toNat < 128) := hs
  have Hc : Hid (scB u = true) := hsc
  have hb := scB_iff.1 hsc
  obtain ⟨h0, h1, _⟩ := hb
  subst ht
  clear hs hsc
  by_cases c : u < 128
  · have Ht : Hid (decide (0 ≤ Lib.indexByte s.data.toList u.toNat.toUInt8) = hasB s.data.toList u) := by
      show decide (0 ≤ Lib.indexByte s.data.toList u.toNat.toUInt8) = hasB s.data.toList u
      rw [index_mem]; simp [hasB, h0, c]
    generalize hasB s.data.toList u = t at *
    go_enter Try.func13, Try.ntmps13
    go_wp2_with (go_at_call 25; refine (rune_low s u h0 c _).mono ?_; rintro e w' ⟨rfl, rfl⟩)
    go_ret
    exact ⟨ret_bool Ht.out, grownBy_refl _ _⟩
  · have Ht : Hid (false = hasB s.data.toList u) := (hasB_high (by omega)).symm
    generalize hasB s.data.toList u = t at *
    go_enter Try.func13, Try.ntmps13
    go_wp2_with (go_at_call 25; refine (rune_high s Hs.out hz hz5 u (by omega) Hc.out _).mono ?_; rintro e w1 ⟨rfl, hg1⟩)
    go_ret
    exact ⟨ret_bool Ht.out, hg1⟩

/-- The document's own search. -/
theorem idx_none {l : List UInt8} {c : UInt8} (h : ∀ j (hj : j < l.length), l[j] ≠ c) : Lib.indexByte l c = -1 := by
  have h1 := index_mem l c
  have h2 := Lib.indexByte_ge l c
  have h3 : l.contains c = false := by
    rw [Bool.eq_false_iff]
    intro e
    obtain ⟨j, hj, he⟩ := List.getElem_of_mem (by simpa using e : c ∈ l)
    exact h j hj he
  rw [h3, decide_eq_false_iff_not] at h1
  omega
theorem idx_at : ∀ {l : List UInt8} {c : UInt8} {i : Nat} (hi : i < l.length), (∀ j (hj : j < i), l[j] ≠ c) → l[i] = c → Lib.indexByte l c = (i : Int)
  | b :: l, c, 0, _, _, h => by
    have e : Lib.indexByte (b :: l) c = if b == c then 0 else if Lib.indexByte l c == -1 then -1 else Lib.indexByte l c + 1 := rfl
    rw [e]; simp at h; simp [h]
  | b :: l, c, i + 1, hi, hn, h => by
    have e : Lib.indexByte (b :: l) c = if b == c then 0 else if Lib.indexByte l c == -1 then -1 else Lib.indexByte l c + 1 := rfl
    have h0 : b ≠ c := hn 0 (by omega)
    have ih := idx_at (l := l) (c := c) (i := i) (by simpa using hi) (fun j hj => hn (j + 1) (by omega)) (by simpa using h)
    rw [e, ih]
    have h1 : (b == c) = false := by simpa using h0
    have h2 : (((i : Nat) : Int) == -1) = false := by rw [beq_eq_false_iff_ne]; omega
    rw [h1, h2]; simp
set_option maxRecDepth 100000 in
set_option maxHeartbeats 1000000 in
theorem place_any (s : ByteArray) (hz : s.size ≤ 1000) (c : UInt8) (w : World) : Calls Try.prog 18 #[.string s, .int .u8 (c.toNat : Int)] w fun e w' => e = .returned (.int .i64 (Lib.indexByte s.data.toList c)) ∧ w' = w := by
  go_enter Try.func18, Try.ntmps18
  go_wp2
  go_loop [5] (fun i => ∃ k : Nat, i = .int .i64 (k : Int) ∧ k ≤ s.size ∧ ∀ j (hj : j < k) (hl : j < s.data.toList.length), s.data.toList[j] ≠ c) (fun i => match i with | .int _ k => 1000 - k.toNat | _ => 0)
  case atStart => exact ⟨0, rfl, Nat.zero_le _, fun j hj => by omega⟩
  case round =>
    obtain ⟨k, rfl, hk, hn⟩ := hrel
    have Hn : Hid (∀ j (hj : j < k) (hl : j < s.data.toList.length), s.data.toList[j] ≠ c) := hn
    clear hn
    by_cases hlt : k < s.size
    · obtain ⟨d, hd⟩ : ∃ d, s[k]'hlt = d := ⟨_, rfl⟩
      have hd' : ∀ h, s[k]'h = d := fun _ => hd
      have hl : k < s.data.toList.length := by simpa using hlt
      have hD : Hid (s.data.toList[k]'hl = d) := hd
      clear hd
      by_cases hc : d = c
      · have Hi : Hid ((k : Int) = Lib.indexByte s.data.toList c) := (idx_at hl (fun j hj => Hn.out j hj (by omega)) (hD.out.trans hc)).symm
        subst hc
        go_wp2
        go_ret
        exact ⟨ret_int Hi.out, rfl⟩
      · have hne : ((d.toNat : Int) == (c.toNat : Int)) = false := by
          rw [beq_eq_false_iff_ne]
          intro e
          exact hc (UInt8.toNat_inj.1 (by omega))
        go_wp2
        go_round
        case rel =>
          refine ⟨k + 1, by simp, by omega, fun j hj hl' => ?_⟩
          by_cases hjk : j < k
          · exact Hn.out j hjk hl'
          · have : j = k := by omega
            subst this
            rw [hD.out]; exact hc
        case measure => simp; omega
    · have Hi : Hid ((-1 : Int) = Lib.indexByte s.data.toList c) := (idx_none (fun j hj => Hn.out j (by have : s.data.toList.length = s.size := rfl; omega) hj)).symm
      go_wp2
      go_ret
      exact ⟨ret_int Hi.out, rfl⟩
end Go.Proofs.Ytldbllfifjdajaa.Sv
