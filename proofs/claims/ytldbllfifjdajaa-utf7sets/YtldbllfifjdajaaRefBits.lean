/- The digits of bits, by the document: walks. -/
import Derived.Test.YtldbllfifjdajaaPuts
import Derived.Deep.RegionHeld3
import Derived.BigQuiet
namespace Go.Proofs.Ytldbllfifjdajaa.Sv
open Go.ChangeShapes Go.WideShapes Go.ChangeAt Go.RowKit Go.Proofs.Ytldbllfifjdajaa.Mem Go.Proofs.Ytldbllfifjdajaa.Ucs
set_option linter.unusedVariables false
set_option linter.unusedSimpArgs false

theorem u64_wrap {x : Int} (h0 : 0 ≤ x) (h1 : x < 18446744073709551616) : IntKind.u64.wrap x = x := by rw [IntKind.wrap_u64]; omega
theorem u32_wrap {x : Int} (h0 : 0 ≤ x) (h1 : x < 4294967296) : IntKind.u32.wrap x = x := by rw [IntKind.wrap_u32]; omega
set_option maxRecDepth 100000 in
set_option maxHeartbeats 4000000 in
theorem bitsR_any (md : Int) (b a X : Nat) (hb : b ≤ 5) (ha : a < 32) (hX : X < 65536) (u : Int) (hu : u = (X : Int)) (w : World) (L : List UInt8) (hL : Hid (outL (a * 65536 + X) (b + 16) = L)) (A : Nat) (hA : Hid (outA (a * 65536 + X) (b + 16) = A)) (r : Nat) (hr : (b + 16) % 6 = r) (s : ByteArray) (hs : Hid (str L = s)) :
    Calls Try.prog 20 #[stV md (b : Int) (a : Int) 0, .int .i32 u] w fun e w' => e = .returned (.tuple #[.string s, stV 1 (r : Int) (A : Int) 0]) ∧ w.grownBy w' none := by
  subst hu
  have hNb : a * 65536 + X < 2097152 := by omega
  have hNI : (a : Int) * 65536 + (X : Int) = ((a * 65536 + X : Nat) : Int) := by omega
  obtain ⟨N, hN⟩ : ∃ N, a * 65536 + X = N := ⟨_, rfl⟩
  rw [hN] at hNb hNI hL hA
  clear hN
  obtain ⟨K, hK⟩ : ∃ K, (b + 16) / 6 = K := ⟨_, rfl⟩
  have hn : (b : Int) + 16 = (r : Int) + 6 * (K : Int) := by omega
  have hr5 : r ≤ 5 := by omega
  have hK6 : K ≤ 3 := by omega
  have HL : Hid (L = enc N r K) := (by rw [← hL.out]; unfold outL; rw [hr, hK] : L = enc N r K)
  have HA : Hid (A = N % 2 ^ r) := (by rw [← hA.out]; unfold outA; rw [hr] : A = N % 2 ^ r)
  have hA5 : A < 32 := by rw [HA.out]; have h1 := Nat.mod_lt N (Nat.two_pow_pos r); have h2 := pow_le5 hr5; omega
  clear hr hK hL hA
  go_enter Try.func20, Try.ntmps20
  go_wp2
  go_loop [7, 8] (fun m o => ∃ (k : Nat) (O : List UInt8), m = .int .i64 ((r : Int) + 6 * (k : Int)) ∧ o = .string (str O) ∧ O ++ enc N r k = enc N r K) (fun m _ => match m with | .int _ k => k.toNat | _ => 0)
  case atStart => exact ⟨K, [], rfl, rfl, rfl⟩
  case round =>
    obtain ⟨k, O, rfl, rfl, hO⟩ := hrel
    have HO : Hid (O ++ enc N r k = enc N r K) := hO
    have hlen := enc_len hO
    have hOs : (str O).size ≤ 6 := by rw [str_size]; omega
    clear hO
    match k, HO, hlen with
    | 0, HO, hlen =>
      have Hs : Hid (str O = s) := (by rw [← hs.out, HL.out, ← HO.out]; simp [enc] : str O = s)
      rw [Hs.out] at hOs ⊢
      obtain ⟨P, hP⟩ : ∃ P, 2 ^ r = P := ⟨_, rfl⟩
      have hPI : (2 : Int) ^ r = (P : Int) := by rw [← hP]; simp
      have hP1 : 1 ≤ P := by have := Nat.two_pow_pos r; omega
      have hP2 : P ≤ 32 := by have := pow_le5 hr5; omega
      have hPA : (N : Int) % (P : Int) = (A : Int) := by rw [HA.out, hP]; simp
      have w1 := u64_wrap (x := (P : Int)) (by omega) (by omega)
      have w2 := u32_wrap (x := (A : Int)) (by omega) (by omega)
      have z1 : ((P : Int) == 0) = false := by rw [beq_eq_false_iff_ne]; omega
      have z2 : ¬ (P : Int) = 0 := by omega
      clear hlen hn hP
      go_wp2
      go_region
      all_goals go_wp2
      all_goals refine bodyPost_ret (v := .tuple #[.string s, stV 1 (r : Int) (A : Int) 0]) (by simp [results, Try.results20, go_sem]) rfl ⟨rfl, ?_⟩
      all_goals (repeat (first | with_reducible exact grownBy_refl _ _ | (with_reducible refine gs ?_ ?_; first | omega | (simp; omega)) | with_reducible refine ga ?_ | with_reducible refine gd ?_ | with_reducible refine gdn ?_ | with_reducible refine gt ?_ (by assumption)))
    | k + 1, HO, hlen =>
      obtain ⟨j, hj⟩ : ∃ j, r + 6 * k = j := ⟨_, rfl⟩
      have hjI : (r : Int) + 6 * ((k + 1 : Nat) : Int) = (j : Int) + 6 := by omega
      have hj31 : j ≤ 15 := by omega
      rw [hjI]
      have Hj : Hid (r + 6 * k = j) := hj
      obtain ⟨p, hp⟩ : ∃ p, 2 ^ j = p := ⟨_, rfl⟩
      have hp1 : 1 ≤ p := by have := Nat.two_pow_pos j; omega
      have hp2 : p ≤ 2147483648 := by have : 2 ^ j ≤ 2 ^ 31 := Nat.pow_le_pow_right (by omega) (by omega); omega
      have hpI : (2 : Int) ^ j = (p : Int) := by rw [← hp]; simp
      obtain ⟨Q, hQ⟩ : ∃ Q, N / p = Q := ⟨_, rfl⟩
      have hd : (N : Int) / (p : Int) = (Q : Int) := by rw [← hQ]; simp
      obtain ⟨q, hq⟩ : ∃ q, Q % 64 = q := ⟨_, rfl⟩
      have hq64 : q < 64 := by omega
      have hm : (Q : Int) % 64 = (q : Int) := by omega
      have Hq : Hid (q = N / 2 ^ (r + 6 * k) % 64) := (by rw [hj, hp, hQ, hq] : q = N / 2 ^ (r + 6 * k) % 64)
      have ht := dLit_cut q hq64
      have ht2 : dLit.extract q ((q : Int) + 1).toNat = dgS q := by rw [show ((q : Int) + 1).toNat = q + 1 from by omega]; exact ht
      have hs1 := dgS_size q
      have Hc := Hid.mk' (str_snoc O q)
      have HD : Hid (dgB q = dgB (N / 2 ^ (r + 6 * k) % 64)) := congrArg dgB Hq.out
      generalize dgS q = sq at *
      generalize dgB q = cq at *
      clear hq hQ hp hjI hn hj hlen hNb hK6 hr5 hA5 hX ha hb
      go_wp2
      go_round
      case rel => exact ⟨k, O ++ [cq], by rw [← Hj.out]; simp, by rw [Hc.out], by rw [HD.out]; exact enc_more HO.out⟩
      case measure => simp; omega
theorem ne_byte (c k : UInt8) (n : Int) (hn : (k.toNat : Int) = n) : (c != k) = ((c.toNat : Int) != n) := by
  subst hn
  by_cases h : c = k
  · subst h; simp
  · have h' : ¬ (c.toNat : Int) = (k.toNat : Int) := fun e => h (UInt8.toNat_inj.1 (by omega))
    rw [bne, bne, beq_eq_false_iff_ne.2 h, beq_eq_false_iff_ne.2 h']
/-- A byte that stands for itself, by the document. -/
def dirB (c : UInt8) : Bool := (digL.contains c && c != 43 && c != 47) || markL.contains c
theorem place_is (s : ByteArray) (hz : s.size ≤ 1000) (c : UInt8) (w : World) (i : Int) (hi : Lib.indexByte s.data.toList c = i) : Calls Try.prog 18 #[.string s, .int .u8 (c.toNat : Int)] w fun e w' => e = .returned (.int .i64 i) ∧ w' = w := by
  subst hi; exact place_any s hz c w
theorem dLit_idx (c : UInt8) : Lib.indexByte dLit.data.toList c = Lib.indexByte digL c := rfl
set_option maxRecDepth 100000 in
set_option maxHeartbeats 1000000 in
theorem alnum_any (c : UInt8) (w : World) (t : Bool) (ht : (digL.contains c && c != 43 && c != 47) = t) : Calls Try.prog 27 #[.int .u8 (c.toNat : Int)] w fun e w' => e = .returned (.bool t) ∧ w' = w := by
  obtain ⟨i, hi⟩ : ∃ i, Hid (Lib.indexByte dLit.data.toList c = i) := ⟨_, (rfl : Lib.indexByte dLit.data.toList c = Lib.indexByte dLit.data.toList c)⟩
  have hm : decide (0 ≤ i) = digL.contains c := by rw [← hi.out]; exact index_mem digL c
  have h43 := ne_byte c 43 43 rfl
  have h47 := ne_byte c 47 47 rfl
  have Ht : Hid ((decide (0 ≤ i) && ((c.toNat : Int) != 43) && ((c.toNat : Int) != 47)) = t) := (by rw [hm, ← h43, ← h47]; exact ht : (decide (0 ≤ i) && ((c.toNat : Int) != 43) && ((c.toNat : Int) != 47)) = t)
  clear hm h43 h47 ht
  go_enter Try.func27, Try.ntmps27
  go_wp2_with (go_at_call 18; refine (place_is dLit (by decide) c _ i hi.out).mono ?_; rintro e w' ⟨rfl, hw⟩; obtain rfl := hw)
  all_goals go_ret
  all_goals refine ⟨ret_bool ?_, rfl⟩
  all_goals rw [← Ht.out]
  all_goals (first | rfl | (by_cases a1 : 0 ≤ i <;> by_cases a2 : (c.toNat : Int) = 43 <;> by_cases a3 : (c.toNat : Int) = 47 <;> (first | omega | simp_all)))
abbrev mLit : ByteArray := ⟨#[39, 40, 41, 44, 45, 46, 47, 58, 63, 32, 9, 10, 13]⟩
set_option maxRecDepth 100000 in
set_option maxHeartbeats 1000000 in
theorem direct_any (c : UInt8) (w : World) (t : Bool) (ht : dirB c = t) : Calls Try.prog 17 #[.int .u8 (c.toNat : Int)] w fun e w' => e = .returned (.bool t) ∧ w' = w := by
  obtain ⟨i, hi⟩ : ∃ i, Hid (Lib.indexByte mLit.data.toList c = i) := ⟨_, (rfl : Lib.indexByte mLit.data.toList c = Lib.indexByte mLit.data.toList c)⟩
  have hm : decide (0 ≤ i) = markL.contains c := by rw [← hi.out]; exact index_mem markL c
  obtain ⟨d, hd⟩ : ∃ d, Hid ((digL.contains c && c != 43 && c != 47) = d) := ⟨_, (rfl : (digL.contains c && c != 43 && c != 47) = (digL.contains c && c != 43 && c != 47))⟩
  have Ht : Hid ((d || decide (0 ≤ i)) = t) := (by rw [hm, ← hd.out]; exact ht : (d || decide (0 ≤ i)) = t)
  clear hm ht
  cases d
  · go_enter Try.func17, Try.ntmps17
    go_wp2_with (first | (go_at_call 27; refine (alnum_any c _ false hd.out).mono ?_; rintro e w' ⟨rfl, hw⟩; obtain rfl := hw) | (go_at_call 18; refine (place_is mLit (by decide) c _ i hi.out).mono ?_; rintro e w' ⟨rfl, hw⟩; obtain rfl := hw))
    go_ret
    exact ⟨ret_bool (by rw [← Ht.out]; rfl), rfl⟩
  · go_enter Try.func17, Try.ntmps17
    go_wp2_with (go_at_call 27; refine (alnum_any c _ true hd.out).mono ?_; rintro e w' ⟨rfl, hw⟩; obtain rfl := hw)
    go_ret
    exact ⟨ret_bool (by rw [← Ht.out]; rfl), rfl⟩
end Go.Proofs.Ytldbllfifjdajaa.Sv
