/- What ucs.Parse answers: the loop over a text's runes. -/
import Derived.Test.YtdidchcinfbggaaParse
import Derived.Laws.RangeString
import Derived.Laws.RangeAny
namespace Go.Proofs.Ytdidchcinfbggaa.Ucs
open Go.ChangeShapes Go.WideShapes Go.ChangeAt Go.RowKit

theorem frozen_iter (w : World) (s : ByteArray) (pos : Nat) (a : Addr) : (w.iter s pos).frozen? a = w.frozen? a := by
  by_cases h : a.block = w.heap.size
  · have e1 : (w.iter s pos).heap[a.block]? = some (.stringIter s pos) := by rw [h]; exact World.iter_heap w s pos
    have e2 : w.heap[a.block]? = none := by rw [h]; simp
    simp [World.frozen?, e1, e2]
  · exact World.frozen?_alloc_old _ _ _ h
theorem grown_iter (w : World) (s : ByteArray) (pos : Nat) : Grown w (w.iter s pos) :=
  ⟨World.keptBut_alloc _ _ _, frozen_iter w s pos, by show w.heap.size ≤ (w.heap.push _).size; simp⟩
theorem grown_trans {a b c : World} (h : Grown a b) (k : Grown b c) : Grown a c :=
  ⟨World.keptBut_trans h.1 (World.keptBut_mono (fun _ f => f.elim) k.1), fun x => (k.2.1 x).trans (h.2.1 x), Nat.le_trans h.2.2 k.2.2⟩

theorem take_snoc (s : ByteArray) (k : Nat) (h : k < s.size) : s.data.toList.take (k + 1) = s.data.toList.take k ++ [s[k]] := by
  rw [List.take_succ_eq_append_getElem (by simpa using h)]; rfl
theorem get_mem (s : ByteArray) (k : Nat) (h : k < s.size) : s[k] ∈ s.data.toList := Array.getElem_mem_toList (xs := s.data) h
theorem dv_of_dB (c : UInt8) (h : dB (c.toNat : Int) = true) : 0 ≤ dv c ∧ dV (c.toNat : Int) = dv c := by
  unfold dB at h
  unfold dv dV
  simp only [Bool.or_eq_true, Bool.and_eq_true, decide_eq_true_eq] at h
  split <;> (try split) <;> (first | omega | (split <;> (try split) <;> omega))
theorem dv_of_not (c : UInt8) (h : dB (c.toNat : Int) = false) : dv c < 0 := by
  unfold dB at h
  unfold dv
  simp only [Bool.or_eq_false_iff, Bool.and_eq_false_iff, decide_eq_false_iff_not] at h
  split <;> (try split) <;> omega
theorem dB_high {r : Int} (h : 128 ≤ r) : dB r = false := by simp [dB]; omega
theorem dv_high {c : UInt8} (h : 128 ≤ c.toNat) : dv c < 0 := by unfold dv; split <;> (try split) <;> omega

theorem pow_five {n : Nat} (h : n ≤ 5) : (16 : Int) ^ n ≤ 16 ^ 5 := by
  rcases seven (k := n) (by omega) with e | e | e | e | e | e | e <;> subst e <;> first | decide | omega

set_option maxHeartbeats 1000000 in
theorem parse_any (s : ByteArray) (w : World) (hs : s.size ≤ maxLen) : Calls Try.prog 22 #[.string s] w fun e w' => ∃ v ok, e = .returned (.tuple #[.int .i32 v, .bool ok]) ∧ Reads s v ok ∧ Grown w w' := by
  cases hp : pfx s
  · have hn := no_pfx hp
    have Hn : Hid (Reads s 0 false) := hn
    clear hn
    go_enter Try.func22, Try.ntmps22
    go_wp2_with (go_at_call 25; refine (cutNo _ _ hs hp).mono ?_; rintro e w' ⟨rfl, rfl⟩)
    go_ret2
    exact ⟨0, false, rfl, Hn.out, Grown.refl _⟩
  have hz := rest_size s
  have hs' := hs
  unfold maxLen at hs'
  by_cases hl : 6 < (rest s).size
  · have Hn : Hid (Reads s 0 false) := no_long hl
    go_enter Try.func22, Try.ntmps22
    go_wp2_with (go_at_call 25; refine (cutYes _ _ hs hp).mono ?_; rintro e w' ⟨rfl, rfl⟩)
    go_ret2
    exact ⟨0, false, rfl, Hn.out, Grown.refl _⟩
  have HD : Hid (∀ c ∈ (rest s).data.toList, dv c < 0 → Reads s 0 false) := fun c => no_digit c
  have HN : Hid (hex (valFrom 0 (rest s).data.toList) ≠ s → Reads s 0 false) := no_hex
  have HY : Hid (hex (valFrom 0 (rest s).data.toList) = s → Reads s (valFrom 0 (rest s).data.toList) true) := yes_hex hp
  have hcut := fun w => cutYes s w hs hp
  generalize rest s = d at *
  have hd : d.size ≤ 6 := by omega
  clear hl hz
  go_enter Try.func22, Try.ntmps22
  go_wp2_with (go_at_call 25; refine (hcut _).mono ?_; rintro e w' ⟨rfl, rfl⟩)
  clear hcut hs hs' hp
  go_loopw [6] (fun u wr => ∃ pos : Nat, pos ≤ d.size ∧ wr = w'.iter d pos ∧ u = .int .i32 (valFrom 0 (d.data.toList.take pos))) (fun _ wr => d.size - wr.iterPos w'.heap.size)
  case atStart => exact ⟨0, Nat.zero_le _, rfl, rfl⟩
  case round =>
    obtain ⟨pos, hpos, rfl, rfl⟩ := hrel
    by_cases hlt : pos < d.size
    · have hb := valFrom_bd (d.data.toList.take pos) 0 (by omega)
      have hlen : (d.data.toList.take pos).length ≤ 5 := by rw [List.length_take]; omega
      have hpw : (16 : Int) ^ (d.data.toList.take pos).length ≤ 16 ^ 5 := pow_five hlen
      have b0 := hb.1
      have b1 : valFrom 0 (d.data.toList.take pos) < 1048576 := by
        have := hb.2
        simp only [Int.zero_add, Int.one_mul] at this
        exact Int.lt_of_lt_of_le this (by simpa using hpw)
      clear hb hlen hpw
      have hT : Hid (valFrom 0 (d.data.toList.take (pos + 1)) = 16 * valFrom 0 (d.data.toList.take pos) + dv0 d[pos]) := by
        rw [take_snoc d pos hlt, valFrom_append]; rfl
      have hM := get_mem d pos hlt
      have HF : Hid (dv d[pos] < 0 → Reads s 0 false) := HD.out _ hM
      have HE : Hid (0 ≤ dv d[pos] → dv0 d[pos] = dv d[pos]) := dv0_of
      have HL := dv_le d[pos]
      clear hM
      by_cases ha : d[pos].toNat < 128
      · have hnx : ∀ ty, (Instr.next (.pointer (some ⟨w'.heap.size, 0, none⟩)) true ty).run Try.prog (w'.iter d pos) = _ := fun ty => run_next_ascii w' d pos ty hlt ha
        have H1 : Hid (dB (d[pos].toNat : Int) = true → 0 ≤ dv d[pos] ∧ dV (d[pos].toNat : Int) = dv d[pos]) := dv_of_dB _
        have H2 : Hid (dB (d[pos].toNat : Int) = false → dv d[pos] < 0) := dv_of_not _
        generalize d[pos] = c at *
        cases hc : dB (c.toNat : Int)
        · have HZ : Hid (Reads s 0 false) := HF.out (H2.out hc)
          go_wp2_with (go_at_call 26; refine (digitValue_any _ _).mono ?_; rintro e wx ⟨rfl, rfl⟩)
          go_ret2
          exact ⟨0, false, rfl, HZ.out, grown_iter _ _ _⟩
        · obtain ⟨g0, g1⟩ := H1.out hc
          have g2 : 0 ≤ dV (c.toNat : Int) := by omega
          have g3 : dV (c.toNat : Int) ≤ 15 := by omega
          have HW : Hid (valFrom 0 (d.data.toList.take (pos + 1)) = valFrom 0 (d.data.toList.take pos) * 16 + dV (c.toNat : Int)) := by
            show _ = _
            rw [hT.out, HE.out g0, g1]; omega
          clear g0 g1 HL
          go_wp2_with (go_at_call 26; refine (digitValue_any _ _).mono ?_; rintro e wx ⟨rfl, rfl⟩)
          go_roundw
          case rel => exact ⟨pos + 1, by omega, rfl, by rw [HW.out]⟩
          case measure => simp; omega
      · have hnx : ∀ ty, (Instr.next (.pointer (some ⟨w'.heap.size, 0, none⟩)) true ty).run Try.prog (w'.iter d pos) = _ := fun ty => run_next_any w' d pos ty hlt
        have hh := (decode_high d pos hlt (by omega)).1
        have HZ : Hid (Reads s 0 false) := HF.out (dv_high (by omega))
        have hc := dB_high (r := ((Utf8.decode d pos).1 : Int)) (by omega)
        clear hh
        generalize Utf8.decode d pos = q at *
        go_wp2_with (go_at_call 26; refine (digitValue_any _ _).mono ?_; rintro e wx ⟨rfl, rfl⟩)
        go_ret2
        exact ⟨0, false, rfl, HZ.out, grown_iter _ _ _⟩
    · have hnx : ∀ ty, (Instr.next (.pointer (some ⟨w'.heap.size, 0, none⟩)) true ty).run Try.prog (w'.iter d pos) = _ := fun ty => run_next_end w' d pos ty hlt
      have he : d.data.toList.take pos = d.data.toList := List.take_of_length_le (by show d.size ≤ pos; omega)
      rw [he]
      clear he
      generalize valFrom 0 d.data.toList = v at *
      by_cases hx : hex v = s
      · have HZ : Hid (Reads s v true) := HY.out hx
        have hq : ((hex v).toList == s.toList) = true := by rw [hx]; simp
        have hq' : ((hex v).toList != s.toList) = false := by rw [hx]; simp
        clear hx
        go_wp2_with (go_at_call 16; refine (hex_any _ _).mono ?_; rintro e wx ⟨rfl, rfl⟩)
        go_ret2
        exact ⟨v, true, rfl, HZ.out, grown_iter _ _ _⟩
      · have HZ : Hid (Reads s 0 false) := HN.out hx
        have hq : ((hex v).toList == s.toList) = false := by
          rw [beq_eq_false_iff_ne, ByteArray.toList_eq, ByteArray.toList_eq]
          exact fun e => hx (bytes_inj e)
        have hq' : ((hex v).toList != s.toList) = true := by simp only [bne, hq, Bool.not_false]
        clear hx
        go_wp2_with (go_at_call 16; refine (hex_any _ _).mono ?_; rintro e wx ⟨rfl, rfl⟩)
        go_ret2
        exact ⟨0, false, rfl, HZ.out, grown_iter _ _ _⟩
end Go.Proofs.Ytdidchcinfbggaa.Ucs
