/- DenseMore: the walk. -/
import Derived.Test.YtkhndmphgcdffaaDoorWDBack
import Derived.Deep.RegionHeld3
namespace Go.Proofs.YtkhndmphgcdffaaDoor.Dn
open Go.ChangeShapes Go.WideShapes Go.ChangeAt Go.RowKit Go.Maps Go.Proofs.YtkhndmphgcdffaaDoor.Mem Go.Proofs.YtkhndmphgcdffaaDoor.Ucs Go.Proofs.YtkhndmphgcdffaaDoor.U8
set_option linter.unusedVariables false

theorem app_list (s t : ByteArray) : (s ++ t).toList = s.toList ++ t.toList := by
  rw [ByteArray.toList_eq, ByteArray.toList_eq, ByteArray.toList_eq]
  simp
theorem scan_app {L M : List UInt8} (h : (scanAll L).2.2 = 0) : (scanAll (L ++ M)).1 = (scanAll L).1 ++ (scanAll M).1 := by
  obtain ⟨a, b⟩ := text_of L.length L (Nat.le_refl _) h
  have := scan_units (scanAll L).1 M b
  rw [← a] at this
  rw [this]
theorem ints_app (us vs : List Nat) : ints (us ++ vs) = ints us ++ ints vs := by simp [ints]

set_option maxRecDepth 100000 in
set_option maxHeartbeats 4000000 in
theorem more_long (a0 : Int) (s t : ByteArray) (hs : 2000 < s.size ∨ 2000 < t.size) (h1 : s.size ≤ 9223372036854775807) (h2 : t.size ≤ 9223372036854775807) (w : World) (hF : Forms w) :
    Calls Tryd.prog 5 #[.int .i64 a0, .string s, .string t] w fun e w' => e = .returned (.bool true) ∧ w.grownBy w' none := by
  have hF0 := Hid.mk' hF
  clear hF
  by_cases hs1 : 2000 < s.size
  · go_enter Tryd.func5, Tryd.ntmps5
    go_wp2_with (go_at_call 13; refine (works_any _ hF0.out).mono ?_; rintro e w1 ⟨rfl, hg1⟩)
    go_ret
    exact ⟨rfl, hg1⟩
  · have hs2 : 2000 < t.size := by omega
    go_enter Tryd.func5, Tryd.ntmps5
    go_wp2_with (go_at_call 13; refine (works_any _ hF0.out).mono ?_; rintro e w1 ⟨rfl, hg1⟩)
    go_ret
    exact ⟨rfl, hg1⟩

theorem new_two (a0 : Int) (s : ByteArray) (hs : s.size ≤ 100000) : (∃ E, E ≠ 0 ∧ newE a0 s.toList = E ∧ ∀ w, Forms w → Calls Tryd.prog 6 #[.int .i64 a0, .string s] w fun e w' => e = .returned (.tuple #[.pointer none, .int .i64 E]) ∧ w.grownBy w' none) ∨
    (newE a0 s.toList = 0 ∧ ∀ w, Forms w → Calls Tryd.prog 6 #[.int .i64 a0, .string s] w fun e w' => ∃ B bm ro rc, e = .returned (.tuple #[.pointer (some ⟨B, 0, none⟩), .int .i64 0]) ∧ Tab w' B bm a0.toNat ro rc (ints (scanAll s.toList).1) ∧ w.grownBy w' none) := by
  by_cases h : newE a0 s.toList = 0
  · obtain ⟨f, rfl, hf, hsc, hu, hl, _⟩ := newE_zero h
    exact .inr ⟨h, fun w hF => by rw [Int.toNat_natCast]; exact new_ok f s hs w hF _ hf hsc hu hl⟩
  · exact .inl ⟨_, h, rfl, fun w hF => new_no a0 s hs w hF _ rfl h⟩

set_option maxRecDepth 100000 in
set_option maxHeartbeats 400000 in
theorem more_no (a0 : Int) (s t st : ByteArray) (hst : s ++ t = st) (hs : s.size ≤ 2000) (ht : t.size ≤ 2000) (w : World) (hF : Forms w) (E : Int) (hne : E ≠ 0)
    (h1 : Hid (∀ w, Forms w → Calls Tryd.prog 6 #[.int .i64 a0, .string s] w fun e w' => e = .returned (.tuple #[.pointer none, .int .i64 E]) ∧ w.grownBy w' none))
    (h2 : Hid (∀ w, Forms w → Calls Tryd.prog 6 #[.int .i64 a0, .string st] w fun e w' => ∃ p E', e = .returned (.tuple #[.pointer p, .int .i64 E']) ∧ w.grownBy w' none)) :
    Calls Tryd.prog 5 #[.int .i64 a0, .string s, .string t] w fun e w' => e = .returned (.bool true) ∧ w.grownBy w' none := by
  have hF0 := Hid.mk' hF
  clear hF
  have hE1 : (E == 0) = false := by simpa using hne
  have hE2 : (E != 0) = true := by simpa using hne
  clear hne
  go_enter Tryd.func5, Tryd.ntmps5
  go_wp2_with (first
    | (go_at_call 13; refine (works_any _ hF0.out).mono ?_; rintro e w1 ⟨rfl, hg1⟩; have hF1 := Hid.mk' (hF0.out.kept0 hg1); have hg1' := Hid.mk' hg1; clear hg1)
    | (go_at_call_of 6 (Value.string s); refine (h1.out _ hF1.out).mono ?_; rintro e w2 ⟨rfl, hg2⟩; have hF2 := Hid.mk' (hF1.out.kept0 hg2); have hg2' := Hid.mk' hg2; clear hg2)
    | (go_at_call_of 6 (Value.string st); refine (h2.out _ hF2.out).mono ?_; rintro e w3 ⟨p, E', rfl, hg3⟩))
  go_ret
  exact ⟨rfl, grownBy_trans hg1'.out (grownBy_trans hg2'.out hg3)⟩
set_option maxRecDepth 100000 in
set_option maxHeartbeats 1000000 in
theorem more_no2 (a0 : Int) (s t st : ByteArray) (hst : s ++ t = st) (hs : s.size ≤ 2000) (ht : t.size ≤ 2000) (w : World) (hF : Forms w) (f : Nat) (zs : List Int)
    (h1 : Hid (∀ w, Forms w → Calls Tryd.prog 6 #[.int .i64 a0, .string s] w fun e w' => ∃ B bm ro rc, e = .returned (.tuple #[.pointer (some ⟨B, 0, none⟩), .int .i64 0]) ∧ Tab w' B bm f ro rc zs ∧ w.grownBy w' none))
    (E : Int) (hne : E ≠ 0) (h2 : Hid (∀ w, Forms w → Calls Tryd.prog 6 #[.int .i64 a0, .string st] w fun e w' => e = .returned (.tuple #[.pointer none, .int .i64 E]) ∧ w.grownBy w' none)) :
    Calls Tryd.prog 5 #[.int .i64 a0, .string s, .string t] w fun e w' => e = .returned (.bool true) ∧ w.grownBy w' none := by
  have hF0 := Hid.mk' hF
  clear hF
  have hE1 : (E == 0) = false := by simpa using hne
  have hE2 : (E != 0) = true := by simpa using hne
  clear hne
  go_enter Tryd.func5, Tryd.ntmps5
  go_wp2_with (first
    | (go_at_call 13; refine (works_any _ hF0.out).mono ?_; rintro e w1 ⟨rfl, hg1⟩; have hF1 := Hid.mk' (hF0.out.kept0 hg1); have hg1' := Hid.mk' hg1; clear hg1)
    | (go_at_call_of 6 (Value.string s); refine (h1.out _ hF1.out).mono ?_; rintro e w2 ⟨B1, m1, r1, c1, rfl, hT1, hg2⟩; have hF2 := Hid.mk' (hF1.out.kept0 hg2); have hg2' := Hid.mk' hg2; have hT1' := Hid.mk' hT1; clear hg2 hT1)
    | (go_at_call_of 6 (Value.string st); refine (h2.out _ hF2.out).mono ?_; rintro e w3 ⟨rfl, hg3⟩))
  go_ret
  exact ⟨rfl, grownBy_trans hg1'.out (grownBy_trans hg2'.out hg3)⟩

set_option maxRecDepth 100000 in
set_option maxHeartbeats 1000000 in
theorem more_yes (a0 : Int) (s t st : ByteArray) (hst : s ++ t = st) (hs : s.size ≤ 2000) (ht : t.size ≤ 2000) (w : World) (hF : Forms w) (f : Nat) (zs : List Int)
    (h1 : Hid (∀ w, Forms w → Calls Tryd.prog 6 #[.int .i64 a0, .string s] w fun e w' => ∃ B bm ro rc, e = .returned (.tuple #[.pointer (some ⟨B, 0, none⟩), .int .i64 0]) ∧ Tab w' B bm f ro rc zs ∧ w.grownBy w' none))
    (ys : List Int) (h2 : Hid (∀ w, Forms w → Calls Tryd.prog 6 #[.int .i64 a0, .string st] w fun e w' => ∃ B bm ro rc, e = .returned (.tuple #[.pointer (some ⟨B, 0, none⟩), .int .i64 0]) ∧ Tab w' B bm f ro rc (zs ++ ys) ∧ w.grownBy w' none))
    (hl : Hid (f + zs.length ≤ 256)) (hl2 : Hid (f + (zs ++ ys).length ≤ 256)) (hb : Hid (∀ z ∈ zs, 0 ≤ z ∧ z ≤ 1114111)) :
    Calls Tryd.prog 5 #[.int .i64 a0, .string s, .string t] w fun e w' => e = .returned (.bool true) ∧ w.grownBy w' none := by
  have hF0 := Hid.mk' hF
  clear hF
  have hsd : decide (2000 < (s.size : Int)) = false := decide_eq_false (by omega)
  have htd : decide (2000 < (t.size : Int)) = false := decide_eq_false (by omega)
  go_enter Tryd.func5, Tryd.ntmps5
  go_wp2_with (first
    | (go_at_call 13; refine (works_any _ hF0.out).mono ?_; rintro e w1 ⟨rfl, hg1⟩; have hF1 := Hid.mk' (hF0.out.kept0 hg1); have hg1' := Hid.mk' hg1; clear hg1)
    | (go_at_call_of 6 (Value.string s); refine (h1.out _ hF1.out).mono ?_; rintro e w2 ⟨B1, m1, r1, c1, rfl, hT1, hg2⟩; have hF2 := Hid.mk' (hF1.out.kept0 hg2); have hg2' := Hid.mk' hg2; have hT1' := Hid.mk' hT1; clear hg2 hT1)
    | (go_at_call_of 6 (Value.string st); refine (h2.out _ hF2.out).mono ?_; rintro e w3 ⟨B2, m2, r2, c2, rfl, hT2, hg3⟩; have hg3' := Hid.mk' hg3; have hT2' := Hid.mk' hT2; have hT3' := Hid.mk' (hT1'.out.kept0 hg3); clear hg3 hT2))
  clear h1 h2 hF0 hF1 hF2 hT1'
  go_loopw [11] (fun t11 wx => ∃ i : Nat, i ≤ 256 ∧ t11 = .int .i64 (i : Int) ∧ wx = w3) (fun t11 _ => 256 - (intOf t11).toNat)
  case atStart => exact ⟨0, by omega, rfl, rfl⟩
  case round =>
    obtain ⟨i, hi, rfl, rfl⟩ := hrel
    by_cases hlt : i < 256
    · have hlt' : (i : Int) < 256 := by omega
      obtain ⟨v, hv⟩ : ∃ v, v = (scR f zs i).1 := ⟨_, rfl⟩
      have hvb := scR_le (f := f) hb.out i
      rw [← hv] at hvb
      cases hvo : (scR f zs i).2
      · have q0 : Hid (scR f zs (i : Int).toNat = (v, false)) := Hid.mk' (by rw [Int.toNat_natCast, hv, ← hvo])
        clear hv hvo
        go_wp2_with (go_at_call 8; refine (scalar_int _ B1 m1 f r1 c1 zs hT3'.out hl.out _ (by omega) (by omega) _ _ q0).mono ?_; rintro e w4 ⟨rfl, rfl⟩)
        go_roundw
        case rel => exact ⟨i + 1, by omega, by go_num, by first | rfl | trivial⟩
        case measure => simp [intOf]; omega
      · obtain ⟨k1, _, _⟩ := back_sc hvo
        have k4 := scR_more (ys := ys) hvo
        rw [← hv] at k1
        have k5 := byR_more (ys := ys) k1
        have q0 : Hid (scR f zs (i : Int).toNat = (v, true)) := Hid.mk' (by rw [Int.toNat_natCast, hv, ← hvo])
        have q3 : Hid (scR f (zs ++ ys) (i : Int).toNat = (v, true)) := Hid.mk' (by rw [Int.toNat_natCast, k4, hv, ← hvo])
        obtain ⟨c, hc⟩ : ∃ c, c = (byR f zs v).1 := ⟨_, rfl⟩
        have q1 : Hid (byR f zs v = (c, true)) := Hid.mk' (by rw [hc, ← k1])
        have q2 : Hid (byR f (zs ++ ys) v = (c, true)) := Hid.mk' (by rw [k5, hc, ← k1])
        obtain ⟨hv0, hv1⟩ := hvb
        clear hv hvo hc k1 k4 k5
        go_wp2_with (first
          | (go_at_call_of 8 (Value.pointer (some ⟨B1, 0, none⟩)); refine (scalar_int _ B1 m1 f r1 c1 zs hT3'.out hl.out _ (by omega) (by omega) _ _ q0).mono ?_; rintro e w4 ⟨rfl, rfl⟩)
          | (go_at_call_of 8 (Value.pointer (some ⟨B2, 0, none⟩)); refine (scalar_int _ B2 m2 f r2 c2 (zs ++ ys) hT2'.out hl2.out _ (by omega) (by omega) _ _ q3).mono ?_; rintro e w4 ⟨rfl, rfl⟩)
          | (go_at_call_of 10 (Value.pointer (some ⟨B1, 0, none⟩)); refine (byte_at _ B1 m1 f r1 c1 zs hT3'.out _ (by omega) (by omega) _ _ q1).mono ?_; rintro e w4 ⟨rfl, rfl⟩)
          | (go_at_call_of 10 (Value.pointer (some ⟨B2, 0, none⟩)); refine (byte_at _ B2 m2 f r2 c2 (zs ++ ys) hT2'.out _ (by omega) (by omega) _ _ q2).mono ?_; rintro e w4 ⟨rfl, rfl⟩))
        go_roundw
        case rel => exact ⟨i + 1, by omega, by go_num, by first | rfl | trivial⟩
        case measure => simp [intOf]; omega
    · obtain rfl : i = 256 := by omega
      go_wp2
      go_ret
      exact ⟨rfl, grownBy_trans hg1'.out (grownBy_trans hg2'.out hg3'.out)⟩

theorem more_walk (a0 : Int) (s t : ByteArray) (h1 : s.size ≤ 9223372036854775807) (h2 : t.size ≤ 9223372036854775807) (w : World) (hF : Forms w) :
    Calls Tryd.prog 5 #[.int .i64 a0, .string s, .string t] w fun e w' => e = .returned (.bool true) ∧ w.grownBy w' none := by
  by_cases hs : 2000 < s.size ∨ 2000 < t.size
  · exact more_long a0 s t hs h1 h2 w hF
  · have hs1 : s.size ≤ 2000 := by omega
    have ht1 : t.size ≤ 2000 := by omega
    have hst : (s ++ t).size ≤ 100000 := by rw [ByteArray.size_append]; omega
    rcases new_two a0 s (by omega) with ⟨E, hne, _, k1⟩ | ⟨hE, k1⟩
    · refine more_no a0 s t (s ++ t) rfl hs1 ht1 w hF E hne (Hid.mk' k1) (Hid.mk' ?_)
      intro w hF
      rcases new_two a0 (s ++ t) hst with ⟨E', _, _, k2⟩ | ⟨_, k2⟩
      · exact (k2 w hF).mono (fun e w' ⟨h, hg⟩ => ⟨_, _, h, hg⟩)
      · exact (k2 w hF).mono (fun e w' ⟨B, bm, ro, rc, h, _, hg⟩ => ⟨_, _, h, hg⟩)
    · obtain ⟨f, rfl, hf, hsc, hu, hl, he⟩ := newE_zero hE
      rcases new_two (f : Int) (s ++ t) hst with ⟨E', hne, _, k2⟩ | ⟨hE2, k2⟩
      · exact more_no2 _ s t (s ++ t) rfl hs1 ht1 w hF _ _ (Hid.mk' k1) E' hne (Hid.mk' k2)
      · obtain ⟨g, hg, _, hsc2, _, hl2, _⟩ := newE_zero hE2
        obtain rfl : f = g := by omega
        have e := scan_app (M := t.toList) he
        rw [← app_list] at e
        rw [e] at hl2
        simp only [e, ints_app, Int.toNat_natCast] at k2
        rw [Int.toNat_natCast] at k1
        refine more_yes _ s t (s ++ t) rfl hs1 ht1 w hF f _ (Hid.mk' k1) _ (Hid.mk' k2) (Hid.mk' ?_) (Hid.mk' ?_) (Hid.mk' (ints_le hsc))
        · simpa [ints] using hl
        · simpa [ints] using hl2
end Go.Proofs.YtkhndmphgcdffaaDoor.Dn
