/- DenseBack: the walk. -/
import Derived.Test.YtkhndmphgcdffaaDoorDWorks
namespace Go.Proofs.YtkhndmphgcdffaaDoor.Dn
open Go.ChangeShapes Go.WideShapes Go.ChangeAt Go.RowKit Go.Maps Go.Proofs.YtkhndmphgcdffaaDoor.Mem Go.Proofs.YtkhndmphgcdffaaDoor.Ucs Go.Proofs.YtkhndmphgcdffaaDoor.U8
set_option linter.unusedVariables false

theorem ints_le {us : List Nat} (h : Sc us) : ∀ z ∈ ints us, 0 ≤ z ∧ z ≤ 1114111 := by
  intro z hz
  obtain ⟨u, hu, rfl⟩ := List.mem_map.1 hz
  have := sc_le (h u hu)
  omega
theorem scR_le {f : Nat} {zs : List Int} (h : ∀ z ∈ zs, 0 ≤ z ∧ z ≤ 1114111) (b : Nat) : 0 ≤ (scR f zs b).1 ∧ (scR f zs b).1 ≤ 1114111 := by
  cases hc : (scR f zs b).2
  · unfold scR at hc ⊢
    split
    · rename_i h1
      rw [if_pos h1] at hc
      split
      · rename_i z hz
        rw [hz] at hc
        split
        · simp
        · rename_i h2; simp only [if_neg h2] at hc; cases hc
      · simp
    · simp
  · obtain ⟨h1, h2, h3, h4⟩ := scR_true hc
    rw [h4]
    exact h _ (List.getElem_mem h2)

set_option maxRecDepth 100000 in
set_option maxHeartbeats 4000000 in
theorem back_walk (a0 : Int) (s : ByteArray) (u : Int) (h0 : -2147483648 ≤ u) (h1 : u ≤ 2147483647) (hmax : s.size ≤ 9223372036854775807) (w : World) (hF : Forms w) :
    Calls Tryd.prog 4 #[.int .i64 a0, .string s, .int .i32 u] w fun e w' => e = .returned (.bool true) ∧ w.grownBy w' none := by
  have hF0 := Hid.mk' hF
  clear hF
  by_cases hs : 2000 < s.size
  · go_enter Tryd.func4, Tryd.ntmps4
    go_wp2_with (go_at_call 13; refine (works_any _ hF0.out).mono ?_; rintro e w1 ⟨rfl, hg1⟩)
    go_ret
    exact ⟨rfl, hg1⟩
  have hs' : s.size ≤ 2000 := by omega
  clear hs hmax
  obtain ⟨E, hE⟩ : ∃ E, Hid (newE a0 s.toList = E) := ⟨_, rfl⟩
  by_cases hne : E = 0
  · subst hne
    obtain ⟨f, rfl, hf, hsc, hu, hl, _⟩ := newE_zero hE.out
    generalize (scanAll s.toList).1 = us at *
    have hb := Hid.mk' (ints_le hsc)
    have hl' := Hid.mk' (show f + (ints us).length ≤ 256 by simpa [ints] using hl)
    have hnew := Hid.mk' (fun w hF => new_ok f s (by omega) w hF us hf hsc hu hl)
    clear hE hsc hu hl
    generalize ints us = zs at *
    clear us
    obtain ⟨x, hx⟩ : ∃ x, x = (byR f zs u).1 := ⟨_, rfl⟩
    have hxb := byR_bound (f := f) (zs := zs) u hl'.out
    rw [← hx] at hxb
    obtain ⟨hx0, hx1⟩ := hxb
    have hsd : decide (2000 < (s.size : Int)) = false := decide_eq_false (by omega)
    cases hok : (byR f zs u).2
    · have r0 : Hid (byR f zs u = (x, false)) := Hid.mk' (by rw [hx, ← hok])
      clear hx hok
      go_enter Tryd.func4, Tryd.ntmps4
      go_wp2_with (first
        | (go_at_call 13; refine (works_any _ hF0.out).mono ?_; rintro e w1 ⟨rfl, hg1⟩; have hF1 := Hid.mk' (hF0.out.kept0 hg1); have hg1' := Hid.mk' hg1; clear hg1)
        | (go_at_call 6; refine (hnew.out _ hF1.out).mono ?_; rintro e w2 ⟨B, bm, ro, rc, rfl, hT, hg2⟩; have hT0 := Hid.mk' hT; have hg2' := Hid.mk' hg2; clear hT hg2)
        | (go_at_call 10; refine (byte_at _ B bm f ro rc zs hT0.out _ h0 h1 _ _ (by assumption)).mono ?_; rintro e w' ⟨rfl, rfl⟩))
      clear r0
      go_loopw [13] (fun t13 wx => ∃ i : Nat, i ≤ 256 ∧ t13 = .int .i64 (i : Int) ∧ wx = w') (fun t13 _ => 256 - (intOf t13).toNat)
      case atStart => exact ⟨0, by omega, rfl, rfl⟩
      case round =>
        obtain ⟨i, hi, rfl, rfl⟩ := hrel
        by_cases hlt : i < 256
        · have hlt' : (i : Int) < 256 := by omega
          obtain ⟨v, hv⟩ : ∃ v, v = (scR f zs i).1 := ⟨_, rfl⟩
          have hvb := scR_le (f := f) hb.out i
          rw [← hv] at hvb
          cases hvo : (scR f zs i).2
          · have q0 : Hid (scR f zs (i : Int).toNat = (v, false)) := Hid.mk' (by rw [Int.toNat_natCast, hv, ← hvo])
            clear hv hvo
            go_wp2_with (go_at_call 8; refine (scalar_int _ B bm f ro rc zs hT0.out hl'.out _ (by omega) (by omega) _ _ (by assumption)).mono ?_; rintro e w3 ⟨rfl, rfl⟩)
            go_roundw
            case rel => exact ⟨i + 1, by omega, by go_num, by first | rfl | trivial⟩
            case measure => simp [intOf]; omega
          · obtain ⟨k1, k2, k3⟩ := back_sc hvo
            rw [← hv] at k1 k2 k3
            have q0 : Hid (scR f zs (i : Int).toNat = (v, true)) := Hid.mk' (by rw [Int.toNat_natCast, hv, ← hvo])
            have hcb := byR_bound (f := f) (zs := zs) v hl'.out
            obtain ⟨c, hc⟩ : ∃ c, c = (byR f zs v).1 := ⟨_, rfl⟩
            rw [← hc] at k2 k3 hcb
            have q1 : Hid (byR f zs v = (c, true)) := Hid.mk' (by rw [hc, ← k1])
            have q2 : Hid (scR f zs c.toNat = (v, true)) := Hid.mk' k3
            have hci : decide ((i : Int) < c) = false := decide_eq_false (by omega)
            obtain ⟨hv0, hv1⟩ := hvb
            obtain ⟨hc0, hc1⟩ := hcb
            clear hv hvo hc k1 k3
            go_wp2_with (first
              | (go_at_call 8; refine (scalar_int _ B bm f ro rc zs hT0.out hl'.out _ (by omega) (by omega) _ _ (by assumption)).mono ?_; rintro e w3 ⟨rfl, rfl⟩)
              | (go_at_call 10; refine (byte_at _ B bm f ro rc zs hT0.out _ (by omega) (by omega) _ _ (by assumption)).mono ?_; rintro e w3 ⟨rfl, rfl⟩))
            go_roundw
            case rel => exact ⟨i + 1, by omega, by go_num, by first | rfl | trivial⟩
            case measure => simp [intOf]; omega
        · obtain rfl : i = 256 := by omega
          go_wp2
          go_ret
          exact ⟨rfl, grownBy_trans hg1'.out hg2'.out⟩
    · have r0 : Hid (byR f zs u = (x, true)) := Hid.mk' (by rw [hx, ← hok])
      obtain ⟨hu1, hu2⟩ := back_by hok
      rw [← hx] at hu2
      have r1 : Hid (scR f zs x.toNat = (u, true)) := Hid.mk' hu2
      have hu3 : (u == 65533) = false := by simpa using hu1
      clear hx hok hu2 hu1
      go_enter Tryd.func4, Tryd.ntmps4
      go_wp2_with (first
        | (go_at_call 13; refine (works_any _ hF0.out).mono ?_; rintro e w1 ⟨rfl, hg1⟩; have hF1 := Hid.mk' (hF0.out.kept0 hg1); have hg1' := Hid.mk' hg1; clear hg1)
        | (go_at_call 6; refine (hnew.out _ hF1.out).mono ?_; rintro e w2 ⟨B, bm, ro, rc, rfl, hT, hg2⟩; have hT0 := Hid.mk' hT; have hg2' := Hid.mk' hg2; clear hT hg2)
        | (go_at_call 10; refine (byte_at _ B bm f ro rc zs hT0.out _ h0 h1 _ _ (by assumption)).mono ?_; rintro e w' ⟨rfl, rfl⟩)
        | (go_at_call 8; refine (scalar_int _ B bm f ro rc zs hT0.out hl'.out _ (by omega) (by omega) _ _ (by assumption)).mono ?_; rintro e w3 ⟨rfl, rfl⟩))
      clear r0 r1
      go_loopw [13] (fun t13 wx => ∃ i : Nat, i ≤ 256 ∧ t13 = .int .i64 (i : Int) ∧ wx = w3) (fun t13 _ => 256 - (intOf t13).toNat)
      case atStart => exact ⟨0, by omega, rfl, rfl⟩
      case round =>
        obtain ⟨i, hi, rfl, rfl⟩ := hrel
        by_cases hlt : i < 256
        · have hlt' : (i : Int) < 256 := by omega
          obtain ⟨v, hv⟩ : ∃ v, v = (scR f zs i).1 := ⟨_, rfl⟩
          have hvb := scR_le (f := f) hb.out i
          rw [← hv] at hvb
          cases hvo : (scR f zs i).2
          · have q0 : Hid (scR f zs (i : Int).toNat = (v, false)) := Hid.mk' (by rw [Int.toNat_natCast, hv, ← hvo])
            clear hv hvo
            go_wp2_with (go_at_call 8; refine (scalar_int _ B bm f ro rc zs hT0.out hl'.out _ (by omega) (by omega) _ _ (by assumption)).mono ?_; rintro e w4 ⟨rfl, rfl⟩)
            go_roundw
            case rel => exact ⟨i + 1, by omega, by go_num, by first | rfl | trivial⟩
            case measure => simp [intOf]; omega
          · obtain ⟨k1, k2, k3⟩ := back_sc hvo
            rw [← hv] at k1 k2 k3
            have q0 : Hid (scR f zs (i : Int).toNat = (v, true)) := Hid.mk' (by rw [Int.toNat_natCast, hv, ← hvo])
            have hcb := byR_bound (f := f) (zs := zs) v hl'.out
            obtain ⟨c, hc⟩ : ∃ c, c = (byR f zs v).1 := ⟨_, rfl⟩
            rw [← hc] at k2 k3 hcb
            have q1 : Hid (byR f zs v = (c, true)) := Hid.mk' (by rw [hc, ← k1])
            have q2 : Hid (scR f zs c.toNat = (v, true)) := Hid.mk' k3
            have hci : decide ((i : Int) < c) = false := decide_eq_false (by omega)
            obtain ⟨hv0, hv1⟩ := hvb
            obtain ⟨hc0, hc1⟩ := hcb
            clear hv hvo hc k1 k3
            go_wp2_with (first
              | (go_at_call 8; refine (scalar_int _ B bm f ro rc zs hT0.out hl'.out _ (by omega) (by omega) _ _ (by assumption)).mono ?_; rintro e w4 ⟨rfl, rfl⟩)
              | (go_at_call 10; refine (byte_at _ B bm f ro rc zs hT0.out _ (by omega) (by omega) _ _ (by assumption)).mono ?_; rintro e w4 ⟨rfl, rfl⟩))
            go_roundw
            case rel => exact ⟨i + 1, by omega, by go_num, by first | rfl | trivial⟩
            case measure => simp [intOf]; omega
        · obtain rfl : i = 256 := by omega
          go_wp2
          go_ret
          exact ⟨rfl, grownBy_trans hg1'.out hg2'.out⟩
  · have hE1 : (E == 0) = false := by simpa using hne
    have hE2 : (E != 0) = true := by simpa using hne
    have hne0 := Hid.mk' hne
    clear hne
    go_enter Tryd.func4, Tryd.ntmps4
    go_wp2_with (first
      | (go_at_call 13; refine (works_any _ hF0.out).mono ?_; rintro e w1 ⟨rfl, hg1⟩; have hF1 := Hid.mk' (hF0.out.kept0 hg1); have hg1' := Hid.mk' hg1; clear hg1)
      | (go_at_call 6; refine (new_no _ _ (by omega) _ hF1.out E hE.out hne0.out).mono ?_; rintro e w2 ⟨rfl, hg2⟩))
    go_ret
    exact ⟨rfl, grownBy_trans hg1'.out hg2⟩
end Go.Proofs.YtkhndmphgcdffaaDoor.Dn
