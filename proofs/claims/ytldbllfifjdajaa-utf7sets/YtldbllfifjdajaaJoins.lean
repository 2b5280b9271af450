/- What ucs.Join and Split and their twins answer: walks. -/
import Derived.Test.YtldbllfifjdajaaTells
namespace Go.Proofs.Ytldbllfifjdajaa.Ucs
open Go.ChangeShapes Go.WideShapes Go.ChangeAt Go.RowKit

theorem i32_mask (k : Nat) (hk : k ≤ 30) (x : Int) (h0 : 0 ≤ x) (h1 : x < 2147483648) : bits .and .i32 x ((2 ^ k - 1 : Nat) : Int) = x % ((2 ^ k : Nat) : Int) := by
  obtain ⟨a, rfl⟩ := Int.eq_ofNat_of_zero_le h0
  have ha : a < 2147483648 := by omega
  have hp : 2 ^ k ≤ 2 ^ 30 := Nat.pow_le_pow_right (by omega) hk
  have hq : 0 < 2 ^ k := Nat.two_pow_pos k
  have e1 : (BitVec.ofInt 32 (a : Int)).toNat = a := by rw [BitVec.ofInt_natCast, BitVec.toNat_ofNat]; exact Nat.mod_eq_of_lt (by omega)
  have e2 : (BitVec.ofInt 32 ((2 ^ k - 1 : Nat) : Int)).toNat = 2 ^ k - 1 := by rw [BitVec.ofInt_natCast, BitVec.toNat_ofNat]; exact Nat.mod_eq_of_lt (by omega)
  show IntKind.i32.wrap ((BitVec.ofInt 32 (a : Int) &&& BitVec.ofInt 32 ((2 ^ k - 1 : Nat) : Int)).toNat : Int) = _
  rw [BitVec.toNat_and, e1, e2, Nat.and_two_pow_sub_one_eq_mod, IntKind.wrap_i32]
  have hm : a % 2 ^ k < 2 ^ k := Nat.mod_lt _ hq
  rw [← Int.natCast_emod]
  generalize a % 2 ^ k = m at hm
  omega
theorem i32_and_1023 (x : Int) (h0 : 0 ≤ x) (h1 : x < 2147483648) : bits .and .i32 x 1023 = x % 1024 := i32_mask 10 (by omega) x h0 h1
theorem i32_and_15 (x : Int) (h0 : 0 ≤ x) (h1 : x < 2147483648) : bits .and .i32 x 15 = x % 16 := i32_mask 4 (by omega) x h0 h1
theorem ret_two {v v' : Int} {k : IntKind} {b b' : Bool} (h : v = v') (g : b = b') : Ending.returned (.tuple #[.int k v, .bool b]) = .returned (.tuple #[.int k v', .bool b']) := by rw [h, g]
theorem ret_three {v v' x x' : Int} {k l : IntKind} {b b' : Bool} (h : v = v') (i : x = x') (g : b = b') : Ending.returned (.tuple #[.int k v, .int l x, .bool b]) = .returned (.tuple #[.int k v', .int l x', .bool b']) := by rw [h, i, g]

theorem split_any (u : Int) (w : World) : Calls Try.prog 33 #[.int .i32 u] w fun e w' => e = .returned (.tuple #[.int .i32 (splitH u), .int .i32 (splitL u), .bool (splitB u)]) ∧ w' = w := by
  by_cases h : u < 65536
  · obtain ⟨e1, e2, e3⟩ := split_no (u := u) (.inl h)
    rw [e1, e2, e3]; clear e1 e2 e3
    go_enter Try.func33, Try.ntmps33
    go_wp2
    go_ret3
    exact ⟨rfl, rfl⟩
  by_cases k : 1114111 < u
  · obtain ⟨e1, e2, e3⟩ := split_no (u := u) (.inr k)
    rw [e1, e2, e3]; clear e1 e2 e3
    go_enter Try.func33, Try.ntmps33
    go_wp2
    go_ret3
    exact ⟨rfl, rfl⟩
  · obtain ⟨e1, e2, e3⟩ := split_yes (u := u) (by omega) (by omega)
    rw [e1, e2, e3]; clear e1 e2 e3
    have hm := i32_and_1023 (u - 65536) (by omega) (by omega)
    go_enter Try.func33, Try.ntmps33
    go_wp2
    go_ret3
    exact ⟨rfl, rfl⟩

theorem split_ref (u : Int) (w : World) : Calls Try.prog 19 #[.int .i32 u] w fun e w' => e = .returned (.tuple #[.int .i32 (splitH u), .int .i32 (splitL u), .bool (splitB u)]) ∧ w' = w := by
  by_cases h : u < 65536
  · obtain ⟨e1, e2, e3⟩ := split_no (u := u) (.inl h)
    rw [e1, e2, e3]; clear e1 e2 e3
    go_enter Try.func19, Try.ntmps19
    go_wp2
    go_ret3
    exact ⟨rfl, rfl⟩
  by_cases k : 1114111 < u
  · obtain ⟨e1, e2, e3⟩ := split_no (u := u) (.inr k)
    rw [e1, e2, e3]; clear e1 e2 e3
    go_enter Try.func19, Try.ntmps19
    go_wp2
    go_ret3
    exact ⟨rfl, rfl⟩
  · obtain ⟨e1, e2, e3⟩ := split_yes (u := u) (by omega) (by omega)
    rw [e1, e2, e3]; clear e1 e2 e3
    go_enter Try.func19, Try.ntmps19
    go_wp2
    go_ret3
    exact ⟨rfl, rfl⟩
end Go.Proofs.Ytldbllfifjdajaa.Ucs
