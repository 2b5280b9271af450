/- A scalar's units, and the digits of bits, by the program: walks. -/
import Derived.Test.YtldbllfifjdajaaEnds
import Derived.Test.YtldbllfifjdajaaJoins
namespace Go.Proofs.Ytldbllfifjdajaa.Sv
open Go.ChangeShapes Go.WideShapes Go.ChangeAt Go.RowKit Go.Proofs.Ytldbllfifjdajaa.Mem Go.Proofs.Ytldbllfifjdajaa.Ucs
set_option linter.unusedVariables false
set_option linter.unusedSimpArgs false

theorem u64_of (a : Nat) (h : a < 18446744073709551616) : (BitVec.ofInt 64 (a : Int)).toNat = a := by
  rw [BitVec.ofInt_natCast, BitVec.toNat_ofNat]; exact Nat.mod_eq_of_lt (by omega)
theorem u64_or (k M x y : Nat) (hM : 2 ^ k = M) (hy : y < M) (hx : x * M + y < 18446744073709551616) : bits .or .u64 (y : Int) ((x : Int) * (M : Int)) = ((x * M + y : Nat) : Int) := by
  subst hM
  rw [← Int.natCast_mul]
  show IntKind.u64.wrap ((BitVec.ofInt 64 (y : Int) ||| BitVec.ofInt 64 ((x * 2 ^ k : Nat) : Int)).toNat : Int) = _
  rw [BitVec.toNat_or, u64_of _ (by omega), u64_of _ (by omega), Nat.or_comm, Nat.mul_comm x, ← Nat.two_pow_add_eq_or_of_lt hy, Nat.mul_comm _ x, IntKind.wrap_u64]
  omega
theorem u64_ro (k M x y : Nat) (hM : 2 ^ k = M) (hy : y < M) (hx : x * M + y < 18446744073709551616) : bits .or .u64 ((x : Int) * (M : Int)) (y : Int) = ((x * M + y : Nat) : Int) := by
  subst hM
  rw [← Int.natCast_mul]
  show IntKind.u64.wrap ((BitVec.ofInt 64 ((x * 2 ^ k : Nat) : Int) ||| BitVec.ofInt 64 (y : Int)).toNat : Int) = _
  rw [BitVec.toNat_or, u64_of _ (by omega), u64_of _ (by omega), Nat.mul_comm x, ← Nat.two_pow_add_eq_or_of_lt hy, Nat.mul_comm _ x, IntKind.wrap_u64]
  omega
theorem u64_mask (k x : Nat) (hx : x < 18446744073709551616) (hk : 2 ^ k < 18446744073709551616) : bits .and .u64 (x : Int) (((2 ^ k : Nat) : Int) - 1) = ((x % 2 ^ k : Nat) : Int) := by
  have hq := Nat.two_pow_pos k
  have e0 : ((2 ^ k : Nat) : Int) - 1 = ((2 ^ k - 1 : Nat) : Int) := by omega
  rw [e0]
  show IntKind.u64.wrap ((BitVec.ofInt 64 (x : Int) &&& BitVec.ofInt 64 ((2 ^ k - 1 : Nat) : Int)).toNat : Int) = _
  rw [BitVec.toNat_and, u64_of _ hx, u64_of _ (by omega), Nat.and_two_pow_sub_one_eq_mod, IntKind.wrap_u64]
  have hm : x % 2 ^ k < 2 ^ k := Nat.mod_lt _ hq
  omega
theorem ret_units {a b c d : Int} (h : a = c) (g : b = d) : Ending.returned (.tuple #[.int .u64 a, .int .i64 b]) = .returned (.tuple #[.int .u64 c, .int .i64 d]) := by rw [h, g]
set_option maxRecDepth 100000 in
theorem units_one (u : Nat) (hu : u ≤ 65535) (w : World) : Calls Try.prog 26 #[.int .i32 (u : Int)] w fun e w' => e = .returned (.tuple #[.int .u64 (u : Int), .int .i64 16]) ∧ w' = w := by
  go_enter Try.func26, Try.ntmps26
  go_wp2
  go_ret2
  refine ⟨ret_units ?_ rfl, rfl⟩
  first | rfl | omega
theorem split_lit (u : Int) (w : World) (a b : Int) (t : Bool) (ha : splitH u = a) (hb : splitL u = b) (ht : splitB u = t) : Calls Try.prog 33 #[.int .i32 u] w fun e w' => e = .returned (.tuple #[.int .i32 a, .int .i32 b, .bool t]) ∧ w' = w := by
  subst ha hb ht; exact split_any u w
set_option maxRecDepth 100000 in
theorem units_two (u : Int) (hu : 65535 < u) (h l : Nat) (hh : Hid (splitH u = (h : Int))) (hl : Hid (splitL u = (l : Int))) (hb : Hid (splitB u = true)) (h1 : h < 65536) (l1 : l < 65536) (w : World) : Calls Try.prog 26 #[.int .i32 u] w fun e w' => e = .returned (.tuple #[.int .u64 ((h * 65536 + l : Nat) : Int), .int .i64 32]) ∧ w' = w := by
  have ho : bits .or .u64 ((h : Int) * 65536) (l : Int) = ((h * 65536 + l : Nat) : Int) := u64_ro 16 65536 h l (by decide) l1 (by omega)
  generalize ((h * 65536 + l : Nat) : Int) = r at *
  go_enter Try.func26, Try.ntmps26
  go_wp2_with (go_at_call 33; refine (split_lit _ _ (h : Int) (l : Int) true hh.out hl.out hb.out).mono ?_; rintro e w' ⟨rfl, hw⟩; obtain rfl := hw)
  go_ret2
  exact ⟨rfl, rfl⟩
abbrev putV (e : Int) (s : ByteArray) (md bi ac : Int) : Value := .agg #[.int .i64 e, .string s, .int .i64 md, .int .i64 bi, .int .u32 ac, .int .i32 0]
theorem str_snoc (O : List UInt8) (q : Nat) : str O ++ dgS q = str (O ++ [dgB q]) := by rw [dgS_str, str_append]
theorem enc_more {N r k K : Nat} {O : List UInt8} (h : O ++ enc N r (k + 1) = enc N r K) : (O ++ [dgB (N / 2 ^ (r + 6 * k) % 64)]) ++ enc N r k = enc N r K := by
  rw [← h, List.append_assoc]; rfl
theorem enc_len {N r k K : Nat} {O : List UInt8} (h : O ++ enc N r k = enc N r K) : O.length + k = K := by
  have := congrArg List.length h
  rwa [List.length_append, enc_length, enc_length] at this

set_option maxRecDepth 100000 in
set_option maxHeartbeats 4000000 in
theorem put_16 (b a X : Nat) (hb : b ≤ 5) (ha : a < 32) (hX : X < 65536) (u : Int) (hU : Hid (∀ w : World, Calls Try.prog 26 #[.int .i32 u] w fun e w' => e = .returned (.tuple #[.int .u64 (X : Int), .int .i64 16]) ∧ w' = w)) (hlt : Hid (a * 65536 + X < 2 ^ (b + 16))) (w : World) :
    Calls Try.prog 15 #[stV 1 (b : Int) (a : Int) 0, .int .i32 u] w fun e w' => e = .returned (putV 0 (str (outL (a * 65536 + X) (b + 16))) 1 (((b + 16) % 6 : Nat) : Int) (outA (a * 65536 + X) (b + 16) : Int)) ∧ w.grownBy w' none := by
  have ho : bits .or .u64 (X : Int) ((a : Int) * 65536) = ((a * 65536 + X : Nat) : Int) := u64_or 16 65536 a X (by decide) hX (by omega)
  have hNb : a * 65536 + X < 2097152 := by omega
  obtain ⟨N, hN⟩ : ∃ N, a * 65536 + X = N := ⟨_, rfl⟩
  rw [hN] at ho hNb hlt ⊢
  clear hN
  obtain ⟨r, hr⟩ : ∃ r, (b + 16) % 6 = r := ⟨_, rfl⟩
  obtain ⟨K, hK⟩ : ∃ K, (b + 16) / 6 = K := ⟨_, rfl⟩
  have hn : (b : Int) + 16 = (r : Int) + 6 * (K : Int) := by omega
  have hn' : (16 : Int) + (b : Int) = (r : Int) + 6 * (K : Int) := by omega
  have hnN : Hid (b + 16 = r + 6 * K) := (by omega : b + 16 = r + 6 * K)
  have hr5 : r ≤ 5 := by omega
  have hK6 : K ≤ 6 := by omega
  have HL : Hid (outL N (b + 16) = enc N r K) := (by unfold outL; rw [hr, hK] : outL N (b + 16) = enc N r K)
  have HA : Hid (outA N (b + 16) = N % 2 ^ r) := (by unfold outA; rw [hr] : outA N (b + 16) = N % 2 ^ r)
  have Hlt : Hid (N < 2 ^ (r + 6 * K)) := (by have := hlt.out; rwa [hnN.out] at this : N < 2 ^ (r + 6 * K))
  rw [hr]
  have hA5 : outA N (b + 16) < 32 := by rw [HA.out]; have h1 := Nat.mod_lt N (Nat.two_pow_pos r); have h2 := pow_le5 hr5; omega
  obtain ⟨A, hA⟩ : ∃ A, Hid (outA N (b + 16) = A) := ⟨_, (rfl : outA N (b + 16) = outA N (b + 16))⟩
  rw [hA.out] at HA hA5 ⊢
  obtain ⟨L, hL⟩ : ∃ L, Hid (outL N (b + 16) = L) := ⟨_, (rfl : outL N (b + 16) = outL N (b + 16))⟩
  rw [hL.out] at HL ⊢
  obtain ⟨s, hs⟩ : ∃ s, Hid (str L = s) := ⟨_, (rfl : str L = str L)⟩
  rw [hs.out]
  clear hr hK hlt hL hA
  go_enter Try.func15, Try.ntmps15
  go_wp2_with (go_at_call 26; refine (hU.out _).mono ?_; rintro e w' ⟨rfl, hw⟩; obtain rfl := hw)
  go_loop [5, 6, 7] (fun x m o => ∃ (k : Nat) (O : List UInt8), x = .int .u64 ((N % 2 ^ (r + 6 * k) : Nat) : Int) ∧ m = .int .i64 ((r : Int) + 6 * (k : Int)) ∧ o = .string (str O) ∧ O ++ enc N r k = enc N r K) (fun _ m _ => match m with | .int _ k => k.toNat | _ => 0)
  case atStart => exact ⟨K, [], by rw [Nat.mod_eq_of_lt Hlt.out], rfl, rfl, rfl⟩
  case round =>
    obtain ⟨k, O, rfl, rfl, rfl, hO⟩ := hrel
    have HO : Hid (O ++ enc N r k = enc N r K) := hO
    have hlen := enc_len hO
    have hOs : (str O).size ≤ 6 := by rw [str_size]; omega
    clear hO
    match k, HO, hlen with
    | 0, HO, hlen =>
      have Hs : Hid (str O = s) := (by rw [← hs.out, HL.out, ← HO.out]; simp [enc] : str O = s)
      have Hq : Hid (N % 2 ^ (r + 6 * 0) = A) := (by rw [HA.out]; simp : N % 2 ^ (r + 6 * 0) = A)
      rw [Hs.out] at hOs ⊢
      rw [Hq.out]
      clear hlen hn hn'
      go_wp2
      refine bodyPost_ret (v := putV 0 s 1 (r : Int) (A : Int)) (by simp [results, Try.results15, go_sem]) rfl ⟨rfl, ?_⟩
      (repeat (first | with_reducible exact grownBy_refl _ _ | (with_reducible refine gs ?_ ?_; first | omega | (simp; omega)) | with_reducible refine ga ?_ | with_reducible refine gd ?_ | with_reducible refine gdn ?_ | with_reducible refine gt ?_ (by assumption)))
    | k + 1, HO, hlen =>
      obtain ⟨j, hj⟩ : ∃ j, r + 6 * k = j := ⟨_, rfl⟩
      have hjI : (r : Int) + 6 * ((k + 1 : Nat) : Int) = (j : Int) + 6 := by omega
      have hj31 : j ≤ 15 := by omega
      have hN6 : r + 6 * (k + 1) = j + 6 := by omega
      rw [hjI, hN6]
      have Hj : Hid (r + 6 * k = j) := hj
      obtain ⟨p, hp⟩ : ∃ p, 2 ^ j = p := ⟨_, rfl⟩
      have hp1 : 1 ≤ p := by have := Nat.two_pow_pos j; omega
      have hp2 : p ≤ 2147483648 := by have : 2 ^ j ≤ 2 ^ 31 := Nat.pow_le_pow_right (by omega) (by omega); omega
      have hpI : (2 : Int) ^ j = (p : Int) := by rw [← hp]; simp
      have hX6 : N % 2 ^ (j + 6) < 64 * p := by rw [← hp, Nat.pow_add, Nat.mul_comm]; exact Nat.mod_lt _ (by rw [Nat.mul_comm]; omega)
      have Hq : Hid (N % 2 ^ (j + 6) / p = N / 2 ^ (r + 6 * k) % 64) := (by rw [hj, ← hp]; exact step_digit N j : N % 2 ^ (j + 6) / p = N / 2 ^ (r + 6 * k) % 64)
      have Hy : Hid (N % 2 ^ (j + 6) % p = N % 2 ^ (r + 6 * k)) := (by rw [hj, ← hp]; exact step_rest N j : N % 2 ^ (j + 6) % p = N % 2 ^ (r + 6 * k))
      have hm0 := u64_mask j (N % 2 ^ (j + 6)) (by omega) (by omega)
      rw [hp] at hm0
      obtain ⟨x, hx⟩ : ∃ x, N % 2 ^ (j + 6) = x := ⟨_, rfl⟩
      rw [hx] at hX6 Hq Hy hm0 ⊢
      obtain ⟨q, hq⟩ : ∃ q, x / p = q := ⟨_, rfl⟩
      obtain ⟨y, hy⟩ : ∃ y, x % p = y := ⟨_, rfl⟩
      have hd : (x : Int) / (p : Int) = (q : Int) := by rw [← hq]; simp
      have hq64 : q < 64 := by rw [← hq]; exact Nat.div_lt_of_lt_mul (by rw [Nat.mul_comm]; exact hX6)
      rw [hq] at Hq
      rw [hy] at Hy hm0
      have hyp : y < p := by rw [← hy]; exact Nat.mod_lt _ (by omega)
      have hxb : x ≤ 137438953472 := by omega
      have ht := dLit_get q
      have he := enc_dg q hq64
      have hs1 := dgS_size q
      have Hc := Hid.mk' (str_snoc O q)
      have HD : Hid (dgB q = dgB (N / 2 ^ (r + 6 * k) % 64)) := congrArg dgB Hq.out
      generalize dgS q = sq at *
      generalize dgB q = cq at *
      obtain ⟨c1, hc1⟩ : ∃ c1 : Int, (cq.toNat : Int) = c1 := ⟨_, rfl⟩
      rw [hc1] at he
      clear hx hq hy hp hjI hN6 hX6 hn hn' hj hlen ho hNb hK6 hr5 hA5 hX ha hb
      go_wp2
      go_round
      case rel => exact ⟨k, O ++ [cq], by rw [Hy.out], by rw [← Hj.out]; simp, by rw [Hc.out], by rw [HD.out]; exact enc_more HO.out⟩
      case measure => simp; omega

set_option maxRecDepth 100000 in
set_option maxHeartbeats 4000000 in
theorem put_32 (b a X : Nat) (hb : b ≤ 5) (ha : a < 32) (hX : X < 4294967296) (u : Int) (hU : Hid (∀ w : World, Calls Try.prog 26 #[.int .i32 u] w fun e w' => e = .returned (.tuple #[.int .u64 (X : Int), .int .i64 32]) ∧ w' = w)) (hlt : Hid (a * 4294967296 + X < 2 ^ (b + 32))) (w : World) :
    Calls Try.prog 15 #[stV 1 (b : Int) (a : Int) 0, .int .i32 u] w fun e w' => e = .returned (putV 0 (str (outL (a * 4294967296 + X) (b + 32))) 1 (((b + 32) % 6 : Nat) : Int) (outA (a * 4294967296 + X) (b + 32) : Int)) ∧ w.grownBy w' none := by
  have ho : bits .or .u64 (X : Int) ((a : Int) * 4294967296) = ((a * 4294967296 + X : Nat) : Int) := u64_or 32 4294967296 a X (by decide) hX (by omega)
  have hNb : a * 4294967296 + X < 137438953472 := by omega
  obtain ⟨N, hN⟩ : ∃ N, a * 4294967296 + X = N := ⟨_, rfl⟩
  rw [hN] at ho hNb hlt ⊢
  clear hN
  obtain ⟨r, hr⟩ : ∃ r, (b + 32) % 6 = r := ⟨_, rfl⟩
  obtain ⟨K, hK⟩ : ∃ K, (b + 32) / 6 = K := ⟨_, rfl⟩
  have hn : (b : Int) + 32 = (r : Int) + 6 * (K : Int) := by omega
  have hn' : (32 : Int) + (b : Int) = (r : Int) + 6 * (K : Int) := by omega
  have hnN : Hid (b + 32 = r + 6 * K) := (by omega : b + 32 = r + 6 * K)
  have hr5 : r ≤ 5 := by omega
  have hK6 : K ≤ 6 := by omega
  have HL : Hid (outL N (b + 32) = enc N r K) := (by unfold outL; rw [hr, hK] : outL N (b + 32) = enc N r K)
  have HA : Hid (outA N (b + 32) = N % 2 ^ r) := (by unfold outA; rw [hr] : outA N (b + 32) = N % 2 ^ r)
  have Hlt : Hid (N < 2 ^ (r + 6 * K)) := (by have := hlt.out; rwa [hnN.out] at this : N < 2 ^ (r + 6 * K))
  rw [hr]
  have hA5 : outA N (b + 32) < 32 := by rw [HA.out]; have h1 := Nat.mod_lt N (Nat.two_pow_pos r); have h2 := pow_le5 hr5; omega
  obtain ⟨A, hA⟩ : ∃ A, Hid (outA N (b + 32) = A) := ⟨_, (rfl : outA N (b + 32) = outA N (b + 32))⟩
  rw [hA.out] at HA hA5 ⊢
  obtain ⟨L, hL⟩ : ∃ L, Hid (outL N (b + 32) = L) := ⟨_, (rfl : outL N (b + 32) = outL N (b + 32))⟩
  rw [hL.out] at HL ⊢
  obtain ⟨s, hs⟩ : ∃ s, Hid (str L = s) := ⟨_, (rfl : str L = str L)⟩
  rw [hs.out]
  clear hr hK hlt hL hA
  go_enter Try.func15, Try.ntmps15
  go_wp2_with (go_at_call 26; refine (hU.out _).mono ?_; rintro e w' ⟨rfl, hw⟩; obtain rfl := hw)
  go_loop [5, 6, 7] (fun x m o => ∃ (k : Nat) (O : List UInt8), x = .int .u64 ((N % 2 ^ (r + 6 * k) : Nat) : Int) ∧ m = .int .i64 ((r : Int) + 6 * (k : Int)) ∧ o = .string (str O) ∧ O ++ enc N r k = enc N r K) (fun _ m _ => match m with | .int _ k => k.toNat | _ => 0)
  case atStart => exact ⟨K, [], by rw [Nat.mod_eq_of_lt Hlt.out], rfl, rfl, rfl⟩
  case round =>
    obtain ⟨k, O, rfl, rfl, rfl, hO⟩ := hrel
    have HO : Hid (O ++ enc N r k = enc N r K) := hO
    have hlen := enc_len hO
    have hOs : (str O).size ≤ 6 := by rw [str_size]; omega
    clear hO
    match k, HO, hlen with
    | 0, HO, hlen =>
      have Hs : Hid (str O = s) := (by rw [← hs.out, HL.out, ← HO.out]; simp [enc] : str O = s)
      have Hq : Hid (N % 2 ^ (r + 6 * 0) = A) := (by rw [HA.out]; simp : N % 2 ^ (r + 6 * 0) = A)
      rw [Hs.out] at hOs ⊢
      rw [Hq.out]
      clear hlen hn hn'
      go_wp2
      refine bodyPost_ret (v := putV 0 s 1 (r : Int) (A : Int)) (by simp [results, Try.results15, go_sem]) rfl ⟨rfl, ?_⟩
      (repeat (first | with_reducible exact grownBy_refl _ _ | (with_reducible refine gs ?_ ?_; first | omega | (simp; omega)) | with_reducible refine ga ?_ | with_reducible refine gd ?_ | with_reducible refine gdn ?_ | with_reducible refine gt ?_ (by assumption)))
    | k + 1, HO, hlen =>
      obtain ⟨j, hj⟩ : ∃ j, r + 6 * k = j := ⟨_, rfl⟩
      have hjI : (r : Int) + 6 * ((k + 1 : Nat) : Int) = (j : Int) + 6 := by omega
      have hj31 : j ≤ 31 := by omega
      have hN6 : r + 6 * (k + 1) = j + 6 := by omega
      rw [hjI, hN6]
      have Hj : Hid (r + 6 * k = j) := hj
      obtain ⟨p, hp⟩ : ∃ p, 2 ^ j = p := ⟨_, rfl⟩
      have hp1 : 1 ≤ p := by have := Nat.two_pow_pos j; omega
      have hp2 : p ≤ 2147483648 := by have : 2 ^ j ≤ 2 ^ 31 := Nat.pow_le_pow_right (by omega) (by omega); omega
      have hpI : (2 : Int) ^ j = (p : Int) := by rw [← hp]; simp
      have hX6 : N % 2 ^ (j + 6) < 64 * p := by rw [← hp, Nat.pow_add, Nat.mul_comm]; exact Nat.mod_lt _ (by rw [Nat.mul_comm]; omega)
      have Hq : Hid (N % 2 ^ (j + 6) / p = N / 2 ^ (r + 6 * k) % 64) := (by rw [hj, ← hp]; exact step_digit N j : N % 2 ^ (j + 6) / p = N / 2 ^ (r + 6 * k) % 64)
      have Hy : Hid (N % 2 ^ (j + 6) % p = N % 2 ^ (r + 6 * k)) := (by rw [hj, ← hp]; exact step_rest N j : N % 2 ^ (j + 6) % p = N % 2 ^ (r + 6 * k))
      have hm0 := u64_mask j (N % 2 ^ (j + 6)) (by omega) (by omega)
      rw [hp] at hm0
      obtain ⟨x, hx⟩ : ∃ x, N % 2 ^ (j + 6) = x := ⟨_, rfl⟩
      rw [hx] at hX6 Hq Hy hm0 ⊢
      obtain ⟨q, hq⟩ : ∃ q, x / p = q := ⟨_, rfl⟩
      obtain ⟨y, hy⟩ : ∃ y, x % p = y := ⟨_, rfl⟩
      have hd : (x : Int) / (p : Int) = (q : Int) := by rw [← hq]; simp
      have hq64 : q < 64 := by rw [← hq]; exact Nat.div_lt_of_lt_mul (by rw [Nat.mul_comm]; exact hX6)
      rw [hq] at Hq
      rw [hy] at Hy hm0
      have hyp : y < p := by rw [← hy]; exact Nat.mod_lt _ (by omega)
      have hxb : x ≤ 137438953472 := by omega
      have ht := dLit_get q
      have he := enc_dg q hq64
      have hs1 := dgS_size q
      have Hc := Hid.mk' (str_snoc O q)
      have HD : Hid (dgB q = dgB (N / 2 ^ (r + 6 * k) % 64)) := congrArg dgB Hq.out
      generalize dgS q = sq at *
      generalize dgB q = cq at *
      obtain ⟨c1, hc1⟩ : ∃ c1 : Int, (cq.toNat : Int) = c1 := ⟨_, rfl⟩
      rw [hc1] at he
      clear hx hq hy hp hjI hN6 hX6 hn hn' hj hlen ho hNb hK6 hr5 hA5 hX ha hb
      go_wp2
      go_round
      case rel => exact ⟨k, O ++ [cq], by rw [Hy.out], by rw [← Hj.out]; simp, by rw [Hc.out], by rw [HD.out]; exact enc_more HO.out⟩
      case measure => simp; omega
end Go.Proofs.Ytldbllfifjdajaa.Sv
