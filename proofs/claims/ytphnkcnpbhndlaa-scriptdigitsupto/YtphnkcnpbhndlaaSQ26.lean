/- What the program's Hex and Bytes answer. -/
import Derived.Test.YtphnkcnpbhndlaaSW26
import Derived.Test.YtphnkcnpbhndlaaSL26
namespace Go.Proofs.Ytphnkcnpbhndlaa.C26
open Go.ChangeShapes Go.WideShapes Go.ChangeAt Go.RowKit Go.Proofs.Ytphnkcnpbhndlaa.Mem Go.Proofs.Ytphnkcnpbhndlaa.Sx
set_option linter.unusedVariables false
set_option linter.unusedSimpArgs false

theorem digit_yes (c : Nat) (hc : c < 256) (n : Nat) (hv : Hid (vl c = (n : Int))) (w : World) : Calls Try.prog 10 #[.int .u8 (c : Int)] w fun e w' => e = .returned (.tuple #[.int .u8 (n : Int), .bool true]) ∧ w' = w := by
  by_cases h1 : 48 ≤ c ∧ c ≤ 57
  · have e : (n : Int) = (c : Int) - 48 := by rw [← hv.out]; unfold vl; rw [if_pos h1]
    rw [e]
    have f1 : (48 : Int) ≤ (c : Int) := by omega
    have f2 : (c : Int) ≤ 57 := by omega
    have f3 : IntKind.u8.wrap ((c : Int) - 48) = (c : Int) - 48 := by rw [IntKind.wrap_u8]; omega
    clear hv
    go_enter Try.func10, Try.ntmps10
    go_wp2
    go_ret2
    exact ⟨rfl, rfl⟩
  · by_cases h2 : 65 ≤ c ∧ c ≤ 70
    · have e : (n : Int) = (c : Int) - 65 + 10 := by rw [← hv.out]; unfold vl; rw [if_neg h1, if_pos h2]; omega
      rw [e]
      have f0 : (48 : Int) ≤ (c : Int) := by omega
      have f4 : ¬ (c : Int) ≤ 57 := by omega
      have f1 : (65 : Int) ≤ (c : Int) := by omega
      have f2 : (c : Int) ≤ 70 := by omega
      have f3 : IntKind.u8.wrap ((c : Int) - 65) = (c : Int) - 65 := by rw [IntKind.wrap_u8]; omega
      have f5 : IntKind.u8.wrap ((c : Int) - 65 + 10) = (c : Int) - 65 + 10 := by rw [IntKind.wrap_u8]; omega
      clear hv
      go_enter Try.func10, Try.ntmps10
      go_wp2
      go_ret2
      exact ⟨rfl, rfl⟩
    · by_cases h3 : 97 ≤ c ∧ c ≤ 102
      · have e : (n : Int) = (c : Int) - 97 + 10 := by rw [← hv.out]; unfold vl; rw [if_neg h1, if_neg h2, if_pos h3]; omega
        rw [e]
        have f0 : (48 : Int) ≤ (c : Int) := by omega
        have f4 : ¬ (c : Int) ≤ 57 := by omega
        have f1 : (65 : Int) ≤ (c : Int) := by omega
        have f2 : ¬ (c : Int) ≤ 70 := by omega
        have f6 : (97 : Int) ≤ (c : Int) := by omega
        have f7 : (c : Int) ≤ 102 := by omega
        have f3 : IntKind.u8.wrap ((c : Int) - 97) = (c : Int) - 97 := by rw [IntKind.wrap_u8]; omega
        have f5 : IntKind.u8.wrap ((c : Int) - 97 + 10) = (c : Int) - 97 + 10 := by rw [IntKind.wrap_u8]; omega
        clear hv
        go_enter Try.func10, Try.ntmps10
        go_wp2
        go_ret2
        exact ⟨rfl, rfl⟩
      · exfalso
        have := hv.out
        unfold vl at this
        rw [if_neg h1, if_neg h2, if_neg h3] at this
        omega
theorem digit_no (c : Nat) (hc : c < 256) (hv : Hid (vl c < 0)) (w : World) : Calls Try.prog 10 #[.int .u8 (c : Int)] w fun e w' => e = .returned (.tuple #[.int .u8 0, .bool false]) ∧ w' = w := by
  have h1 : ¬ (48 ≤ c ∧ c ≤ 57) := fun h => by have := hv.out; unfold vl at this; rw [if_pos h] at this; omega
  have h2 : ¬ (65 ≤ c ∧ c ≤ 70) := fun h => by have := hv.out; unfold vl at this; rw [if_neg h1, if_pos h] at this; omega
  have h3 : ¬ (97 ≤ c ∧ c ≤ 102) := fun h => by have := hv.out; unfold vl at this; rw [if_neg h1, if_neg h2, if_pos h] at this; omega
  rcases (by omega : c < 48 ∨ (57 < c ∧ c < 65) ∨ (70 < c ∧ c < 97) ∨ 102 < c) with h | h | h | h
  · have f1 : ¬ ((48 : Int) ≤ (c : Int)) := by omega
    have f2 : ¬ ((65 : Int) ≤ (c : Int)) := by omega
    have f3 : ¬ ((97 : Int) ≤ (c : Int)) := by omega
    have h10 := Hid.mk' h1
    clear hv h1 h2 h3 h10
    go_enter Try.func10, Try.ntmps10
    go_wp2
    go_ret2
    exact ⟨rfl, rfl⟩
  · have f1 : ((48 : Int) ≤ (c : Int)) := by omega
    have f4 : ¬ ((c : Int) ≤ 57) := by omega
    have f2 : ¬ ((65 : Int) ≤ (c : Int)) := by omega
    have f3 : ¬ ((97 : Int) ≤ (c : Int)) := by omega
    have h10 := Hid.mk' h1
    clear hv h1 h2 h3 h10
    go_enter Try.func10, Try.ntmps10
    go_wp2
    go_ret2
    exact ⟨rfl, rfl⟩
  · have f1 : ((48 : Int) ≤ (c : Int)) := by omega
    have f4 : ¬ ((c : Int) ≤ 57) := by omega
    have f2 : ((65 : Int) ≤ (c : Int)) := by omega
    have f5 : ¬ ((c : Int) ≤ 70) := by omega
    have f3 : ¬ ((97 : Int) ≤ (c : Int)) := by omega
    have h10 := Hid.mk' h1
    clear hv h1 h2 h3 h10
    go_enter Try.func10, Try.ntmps10
    go_wp2
    go_ret2
    exact ⟨rfl, rfl⟩
  · have f1 : ((48 : Int) ≤ (c : Int)) := by omega
    have f4 : ¬ ((c : Int) ≤ 57) := by omega
    have f2 : ((65 : Int) ≤ (c : Int)) := by omega
    have f5 : ¬ ((c : Int) ≤ 70) := by omega
    have f3 : ((97 : Int) ≤ (c : Int)) := by omega
    have f6 : ¬ ((c : Int) ≤ 102) := by omega
    have h10 := Hid.mk' h1
    clear hv h1 h2 h3 h10
    go_enter Try.func10, Try.ntmps10
    go_wp2
    go_ret2
    exact ⟨rfl, rfl⟩
theorem shr4 (n : Nat) : (n : Int) / 16 = ((n / 16 : Nat) : Int) := by omega
theorem u8_of (a : Nat) (h : a < 256) : (BitVec.ofInt 8 (a : Int)).toNat = a := by
  rw [BitVec.ofInt_natCast, BitVec.toNat_ofNat]; exact Nat.mod_eq_of_lt (by omega)
theorem u8_and15 (n : Nat) (h : n < 256) : bits .and .u8 (n : Int) 15 = ((n % 16 : Nat) : Int) := by
  show IntKind.u8.wrap ((BitVec.ofInt 8 (n : Int) &&& BitVec.ofInt 8 ((15 : Nat) : Int)).toNat : Int) = _
  rw [BitVec.toNat_and, u8_of _ h, u8_of _ (by omega), show (15 : Nat) = 2 ^ 4 - 1 from rfl, Nat.and_two_pow_sub_one_eq_mod, IntKind.wrap_u8]
  omega
theorem u8_or (x y : Nat) (hx : x < 16) (hy : y < 16) : bits .or .u8 ((x : Int) * 16) (y : Int) = ((x * 16 + y : Nat) : Int) := by
  have e : (x : Int) * 16 = ((x * 16 : Nat) : Int) := by omega
  rw [e]
  show IntKind.u8.wrap ((BitVec.ofInt 8 ((x * 16 : Nat) : Int) ||| BitVec.ofInt 8 (y : Int)).toNat : Int) = _
  have e3 := Nat.two_pow_add_eq_or_of_lt (i := 4) (b := y) (by omega) x
  rw [BitVec.toNat_or, u8_of _ (by omega), u8_of _ (by omega), show x * 16 = 2 ^ 4 * x by omega, ← e3, IntKind.wrap_u8]
  omega
set_option maxRecDepth 100000 in
set_option maxHeartbeats 1000000 in
theorem hexP_any (ao : Option Addr) (cap : Nat) (L : List UInt8) (len : Nat) (hlen : L.length = len) (w : World) (hB : Bytes w ao L) (hm : len ≤ 35184372088832) (T : ByteArray) (hT : Hid (str (hexT L) = T)) :
    Calls Try.prog 4 #[.slice ao len cap] w fun e w' => e = .returned (.string T) ∧ w.grownBy w' none := by
  have hB0 := Hid.mk' hB
  have hl0 := Hid.mk' hlen
  clear hB hlen
  by_cases h0 : len = 0
  · subst h0
    have e : T = ⟨#[45]⟩ := by rw [← hT.out]; unfold hexT; rw [if_pos hl0.out]; rfl
    subst e
    go_enter Try.func4, Try.ntmps4
    go_wp2
    go_ret
    exact ⟨rfl, grownBy_refl _ _⟩
  have hT2 : Hid (str (hexL L) = T) := Hid.mk' (by rw [← hT.out]; unfold hexT; rw [if_neg (by rw [hl0.out]; exact h0)])
  clear hT
  have h0' : ((len : Int) == 0) = false := by simp; omega
  go_enter Try.func4, Try.ntmps4
  go_wp2
  obtain ⟨b, hb⟩ : ∃ b, Hid (w.heap.size = b) := ⟨_, Hid.mk' rfl⟩
  have hw1 : Hid (Bld b b [] (w.alloc (.cells #[.pointer none, .slice none 0 0] 29))) := Hid.mk' (by rw [← hb.out]; exact bld_new w)
  have hw2 : Hid (Below b w (w.alloc (.cells #[.pointer none, .slice none 0 0] 29))) := Hid.mk' (by rw [← hb.out]; exact (Below.refl _ _).alloc (Nat.le_refl _) _)
  rw [hb.out]
  go_loopw [11] (fun t11 wx => ∃ (i : Nat) (D : List UInt8), i ≤ len ∧ t11 = .int .i64 (i : Int) ∧ D.length = 2 * i ∧ Hid (D = hexL (L.take i)) ∧ Hid (Bld b b D wx) ∧ Hid (Below b w wx)) (fun t11 _ => len - (intOf t11).toNat)
  case atStart => exact ⟨0, [], by omega, rfl, rfl, Hid.mk' rfl, hw1, hw2⟩
  case round =>
    obtain ⟨i, D, hi, rfl, hDl, hD, hO, hG⟩ := hrel
    clear hw1 hw2
    have hDl0 := Hid.mk' hDl
    clear hDl
    have hGw : ∀ wx : World, Below b w wx → w.grownBy wx none := fun wx h => below_grown (by rw [hb.out]; exact h)
    have hGs : ∀ wx : World, Below b w wx → b ≤ wx.heap.size := fun wx h => by have := h.size; rw [hb.out] at this; exact this
    have hGw0 := Hid.mk' hGw
    have hGs0 := Hid.mk' hGs
    clear hGw hGs
    by_cases hlt : i < len
    · have hlt' : (i : Int) < (len : Int) := by omega
      have hiL : i < L.length := by rw [hl0.out]; exact hlt
      have hD2 : Hid (D ++ two L[i] = hexL (L.take (i + 1))) := Hid.mk' (by rw [hD.out]; exact hexL_take hiL)
      obtain ⟨g, o, rfl, hy⟩ := byte_cell hB0.out hiL
      have hcl := L[i].toNat_lt
      obtain ⟨c, hcc⟩ : ∃ c, L[i] = c := ⟨_, rfl⟩
      rw [hcc] at hy hD2 hcl
      clear hcc
      obtain ⟨n, hn⟩ : ∃ n, c.toNat = n := ⟨_, rfl⟩
      rw [hn] at hy hcl
      have x0 := hy _ (hGw0.out _ hG.out)
      clear hy
      obtain ⟨dx, hdx⟩ : ∃ d, d = dg (n / 16) := ⟨_, rfl⟩
      obtain ⟨dy, hdy⟩ : ∃ d, d = dg (n % 16) := ⟨_, rfl⟩
      have hdx2 : dx < 256 := by rw [hdx]; exact dg_lt (by omega)
      have hdy2 : dy < 256 := by rw [hdy]; exact dg_lt (by omega)
      have e1 := shr4 n
      have e2 := u8_and15 n hcl
      have x1 := tab_at (n / 16) dx hdx.symm
      have x2 := tab_at (n % 16) dy hdy.symm
      have y1 : ((n / 16 : Nat) : Int) < 16 := by omega
      have y2 : ((n % 16 : Nat) : Int) < 16 := by omega
      have z1 : IntKind.u8.wrap ((n / 16 : Nat) : Int) = ((n / 16 : Nat) : Int) := by rw [IntKind.wrap_u8]; omega
      have hD3 : Hid (D ++ [b8 dx] ++ [b8 dy] = hexL (L.take (i + 1))) := Hid.mk' (by rw [← hD2.out, hdx, hdy, List.append_assoc]; simp [two, hn])
      have c1 := Hid.mk' (fun w => bld_write b b D dx hdx2 w)
      have c2 := Hid.mk' (fun w => bld_write b b (D ++ [b8 dx]) dy hdy2 w)
      have hDm : Hid (D.length ≤ 70368744177664) := Hid.mk' (by have := hDl0.out; omega)
      clear hdx hdy hn hD2
      generalize n / 16 = nx at *
      generalize n % 16 = ny at *
      have e3 : (0 : Int) ≤ (i : Int) := by omega
      go_upto_region 8 with (go_at_call 8; refine (c1.out _ hO.out (by have := hDm.out; omega) (hGs0.out _ hG.out) _ rfl).mono ?_; rintro e w1 ⟨rfl, hO1, hG1⟩)
      have hO10 := Hid.mk' hO1
      have hG10 := Hid.mk' (hG.out.trans hG1)
      clear hO1 hG1 c1 x0
      go_wp2_with (go_at_call 8; refine (c2.out _ hO10.out (by have := hDm.out; simp; omega) (hGs0.out _ hG10.out) _ hD3.out).mono ?_; rintro e w2 ⟨rfl, hO2, hG2⟩)
      go_roundw
      case rel => exact ⟨i + 1, _, by omega, by go_num, by rw [hexL_length, List.length_take, hl0.out]; omega, Hid.mk' rfl, Hid.mk' hO2, Hid.mk' (hG10.out.trans hG2)⟩
      case measure => simp [intOf]; omega
    · obtain rfl : i = len := by omega
      have hlt' : ¬ (i : Int) < (i : Int) := by omega
      have hT3 : str D = T := by rw [hD.out, List.take_of_length_le (by rw [hl0.out]; exact Nat.le_refl _)]; exact hT2.out
      have cs := Hid.mk' (fun w h1 h2 => bld_string b b D w h1 h2 T hT3)
      go_wp2_with (go_at_call 9; refine (cs.out _ hO.out (hGs0.out _ hG.out)).mono ?_; rintro e w1 ⟨rfl, hg1⟩)
      go_ret
      exact ⟨rfl, hGw0.out _ (hG.out.trans hg1)⟩
set_option maxRecDepth 100000 in
set_option maxHeartbeats 1000000 in
theorem bytesP_any (S : List UInt8) (s : ByteArray) (hs : Hid (str S = s)) (w : World) (hm : S.length ≤ 70368744177665) (R : Option (List UInt8)) (hR : Hid (byT S = R)) :
    Calls Try.prog 6 #[.string s] w fun e w' => ∃ ao cap, e = .returned (.tuple #[.slice ao (R.getD []).length cap, .bool R.isSome]) ∧ Own w' ao cap (R.getD []) ∧ w.grownBy w' none := by
  obtain ⟨i5, hi5, hz5, hs5, hb5⟩ := info_parts info5
  by_cases h1 : S = [45]
  · subst h1
    obtain rfl : s = ⟨#[45]⟩ := hs.out.symm
    obtain rfl : R = some [] := hR.out.symm
    go_enter Try.func6, Try.ntmps6
    go_wp2
    go_ret2
    exact ⟨none, 0, rfl, own_nil _, grownBy_refl _ _⟩
  by_cases h2 : S = []
  · subst h2
    obtain rfl : s = ⟨#[]⟩ := hs.out.symm
    obtain rfl : R = none := hR.out.symm
    go_enter Try.func6, Try.ntmps6
    go_wp2
    go_ret2
    exact ⟨none, 0, rfl, own_nil _, grownBy_refl _ _⟩
  have qs : s.toList = S := by rw [← hs.out]; exact str_toList S
  have q1 : (s.toList == [45]) = false := by rw [qs]; simpa using h1
  have q2 : s.toList.isEmpty = false := by rw [qs]; simpa using h2
  clear qs
  obtain ⟨len, hlen⟩ : ∃ n, S.length = n := ⟨_, rfl⟩
  have hsz : s.size = len := by rw [← hs.out, str_size]; exact hlen
  have hl0 := Hid.mk' hlen
  have hm' : len ≤ 70368744177665 := by omega
  by_cases h3 : len % 2 = 0
  · have q3 : (len : Int).tmod 2 = 0 := by rw [Int.tmod_eq_emod_of_nonneg (by omega)]; omega
    have hR2 : Hid (rd S = R) := Hid.mk' (by rw [← hR.out]; unfold byT; rw [if_neg h1, if_neg]; intro h; rcases h with h | h; exact h2 h; rw [hl0.out] at h; exact h h3)
    have h30 := Hid.mk' h3
    clear hR h1 h2 h3 hlen hm
    go_enter Try.func6, Try.ntmps6
    go_wp2
    clear q1 q2 q3
    go_loopw [4, 5] (fun t4 t5 wx => ∃ (i rc : Nat) (ro : Option Addr) (D : List UInt8), i ≤ len ∧ t5 = .int .i64 (i : Int) ∧ t4 = .slice ro D.length rc ∧ D.length ≤ i ∧ Hid (i % 2 = 0) ∧ Hid (rd S = (rd (S.drop i)).map (D ++ ·)) ∧ Hid (Own wx ro rc D) ∧ Hid (∀ g, blk ro = some g → w.heap.size ≤ g) ∧ Hid (w.grownBy wx none)) (fun _ t5 _ => len - (intOf t5).toNat)
    case atStart => exact ⟨0, 0, none, [], by omega, rfl, rfl, by simp, Hid.mk' rfl, Hid.mk' (by simp), Hid.mk' (.inl ⟨rfl, rfl, rfl⟩), Hid.mk' (by intro g e; cases e), Hid.mk' (grownBy_refl _ _)⟩
    case round =>
      obtain ⟨i, rc, ro, D, hi, rfl, rfl, hDl, hi2, hD, hO, hbl, hG⟩ := hrel
      by_cases hlt : i < len
      · have hlt' : (i : Int) < (len : Int) := by omega
        have hodd : i + 1 < len := by have := hi2.out; have := h30.out; omega
        have hi1 : i + 1 < S.length := by rw [hl0.out]; exact hodd
        have hrr := rd_round hi1 hD.out
        obtain ⟨c, hc⟩ : ∃ c, S[i]'(by omega) = c := ⟨_, rfl⟩
        obtain ⟨d, hd⟩ : ∃ d, S[i + 1]'hi1 = d := ⟨_, rfl⟩
        rw [hc, hd] at hrr
        have g0 : s[i]? = some c := by rw [← hs.out]; exact str_at (by rw [List.getElem?_eq_getElem (by omega), hc])
        have g1 : s[i + 1]? = some d := by rw [← hs.out]; exact str_at (by rw [List.getElem?_eq_getElem hi1, hd])
        have i0 := index_str (r := s) (i := i) g0
        have i1 := index_str (r := s) (i := i + 1) g1
        simp only [Int.natCast_add, Int.natCast_one, Int.cast_ofNat_Int] at i1
        have hrr0 := Hid.mk' hrr
        have e1 : IntKind.i64.wrap ((i : Int) + 1) = (i : Int) + 1 := by rw [IntKind.wrap_i64]; omega
        have e2 : (0 : Int) ≤ (i : Int) := by omega
        have hDl0 := Hid.mk' hDl
        clear hrr hc hd g0 g1 hi1 hDl
        by_cases hx : vl c.toNat < 0
        · have hn : R = none := by rw [← hR2.out]; exact hrr0.out.1 (.inl hx)
          subst hn
          have k0 := Hid.mk' (fun w => digit_no c.toNat c.toNat_lt (Hid.mk' hx) w)
          clear hx
          go_wp2_with (go_at_call 10; refine (k0.out _).mono ?_; rintro e w1 ⟨rfl, hw⟩; subst w1)
          go_ret2
          exact ⟨none, 0, rfl, own_nil _, hG.out⟩
        obtain ⟨x, hx'⟩ : ∃ x : Nat, vl c.toNat = (x : Int) := ⟨(vl c.toNat).toNat, by omega⟩
        have x1 : x < 16 := by have := vl_le c.toNat; omega
        have k0 := Hid.mk' (fun w => digit_yes c.toNat c.toNat_lt x (Hid.mk' hx') w)
        by_cases hy : vl d.toNat < 0
        · have hn : R = none := by rw [← hR2.out]; exact hrr0.out.1 (.inr hy)
          subst hn
          have k1 := Hid.mk' (fun w => digit_no d.toNat d.toNat_lt (Hid.mk' hy) w)
          clear hx hy hx' hrr0
          go_upto_region 10 with (go_at_call 10; refine (k0.out _).mono ?_; rintro e w1 ⟨rfl, hw⟩; subst w1)
          go_wp2_with (go_at_call 10; refine (k1.out _).mono ?_; rintro e w1 ⟨rfl, hw⟩; subst w1)
          go_ret2
          exact ⟨none, 0, rfl, own_nil _, hG.out⟩
        obtain ⟨y, hy'⟩ : ∃ y : Nat, vl d.toNat = (y : Int) := ⟨(vl d.toNat).toNat, by omega⟩
        have y1 : y < 16 := by have := vl_le d.toNat; omega
        have k1 := Hid.mk' (fun w => digit_yes d.toNat d.toNat_lt y (Hid.mk' hy') w)
        have hrr1 := hrr0.out.2 (by omega)
        rw [hx', hy'] at hrr1
        obtain ⟨v, hv⟩ : ∃ v : Nat, v = x * 16 + y := ⟨_, rfl⟩
        have ev : (16 * (x : Int) + (y : Int)).toNat = v := by omega
        rw [ev] at hrr1
        have hv2 : v < 256 := by omega
        have ho := u8_or x y x1 y1
        rw [← hv] at ho
        have hw0 : IntKind.u8.wrap ((x : Int) * 16) = (x : Int) * 16 := by rw [IntKind.wrap_u8]; omega
        obtain ⟨F, hF⟩ : ∃ F, Hid (D ++ [b8 v] = F) := ⟨_, Hid.mk' rfl⟩
        rw [hF.out] at hrr1
        have hrr2 := Hid.mk' hrr1
        have hFl : Hid (F.length ≤ i + 2) := Hid.mk' (by rw [← hF.out]; have := hDl0.out; simp; omega)
        have hDm : Hid (D.length + 1 ≤ 140737488355328) := Hid.mk' (by have := hDl0.out; omega)
        clear hrr1 hrr0 hx hy hx' hy' ev hv
        go_upto_region 10 with (go_at_call 10; refine (k0.out _).mono ?_; rintro e w1 ⟨rfl, hw⟩; subst w1)
        go_upto_region 13 with (go_at_call 10; refine (k1.out _).mono ?_; rintro e w1 ⟨rfl, hw⟩; subst w1)
        clear k0 k1 i0 i1
        go_wp2_with (at_builtin; refine wpList_append_any _ rfl _ _ 22 22 rfl i5 Try.underlying22 hi5 hz5 hs5 hb5 ro rc D rfl (by exact hO.out.alloc _) _ rfl [b8 v] (src_of (byte_new wr hv2) 22 1 Try.underlying22) hDm.out F hF.out ?_; intro ro' rc' w1 ho1 hg hat)
        go_roundw
        case rel => exact ⟨i + 2, rc', ro', F, by omega, by go_num, rfl, hFl.out, Hid.mk' (by have := hi2.out; omega), hrr2, Hid.mk' ho1, Hid.mk' (by rcases hat with rfl | rfl; exact hbl.out; intro b hb; simp [blk] at hb; have := hG.out.size; omega), Hid.mk' (grownBy_new (gt hG.out (ga (grownBy_refl _ _))) hg hbl.out)⟩
        case measure => simp [intOf]; omega
      · obtain rfl : i = len := by omega
        obtain rfl : R = some D := by rw [← hR2.out]; exact rd_end (by rw [hl0.out]; exact Nat.le_refl _) hD.out
        go_wp2
        go_ret2
        exact ⟨ro, rc, rfl, hO.out, hG.out⟩
  · have q3 : (len : Int).tmod 2 = 1 := by rw [Int.tmod_eq_emod_of_nonneg (by omega)]; omega
    obtain rfl : R = none := by rw [← hR.out]; unfold byT; rw [if_neg h1, if_pos (.inr (by rw [hl0.out]; exact h3))]
    clear hR h1 h2 h3 hlen hm
    go_enter Try.func6, Try.ntmps6
    go_wp2
    go_ret2
    exact ⟨none, 0, rfl, own_nil _, grownBy_refl _ _⟩
theorem con : Con where
  hex := fun ao cap L len hlen w hB _ _ h3 T hT => hexP_any ao cap L len hlen w hB h3 T hT
  bytes := fun S s hs w h1 R hR => (bytesP_any S s hs w h1 R hR).mono fun e w' ⟨ao, cap, he, ho, hg⟩ => ⟨ao, cap, he, ho.bytes, hg⟩
end Go.Proofs.Ytphnkcnpbhndlaa.C26
