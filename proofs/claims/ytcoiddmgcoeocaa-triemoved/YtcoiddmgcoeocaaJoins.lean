/- What ucs.Join and Split and their twins answer: walks. -/
import Derived.Test.YtcoiddmgcoeocaaTells
namespace Go.Proofs.Ytcoiddmgcoeocaa.Ucs
open Go.ChangeShapes Go.WideShapes Go.ChangeAt Go.RowKit

theorem i32_mask (k : Nat) (hk : k ≤ 30) (x : Int) (h0 : 0 ≤ x) (h1 : x < 2147483648) : bits .and .i32 x ((2 ^ k - 1 : Nat) : Int) = x % ((2 ^ k : Nat) : Int) := by
  obtain ⟨a, rfl⟩ := Int.eq_ofNat_of_zero_le h0
  have ha : a < 2147483648 := by omega
  have hp : 2 ^ k ≤ 2 ^ 30 := Nat.pow_le_pow_right (by omega) hk
  have hq : 0 < 2 ^ k := Nat.two_pow_pos k
  have e1 : (BitVec.ofInt 32 (a : Int)).toNat = a := by rw [BitVec.ofInt_natCast, BitVec.toNat_ofNat]; exact Nat.mod_eq_of_lt (by omega)
  have e2 : (BitVec.ofInt 32 ((2 ^ k - 1 : Nat) : Int)).toNat = 2 ^ k - 1 := by rw [BitVec.ofInt_natCast, BitVec.toNat_ofNat]; exact Nat.mod_eq_of_lt (by omega)
  show IntKind.i32.wrap ((BitVec.ofInt 32 (a : Int) &&& BitVec.ofInt 32 ((2 ^ k - 1 : Nat) : Int)).toNat : Int) = _
  rw [BitVec.toNat_and, e1, e2, Nat.and_two_pow_sub_one_eq_mod, IntKind.wrap_i32]
  have hm : a % 2 ^ k < 2 ^ k := Nat.mod_lt _ hq
  rw [← Int.natCast_emod]
  generalize a % 2 ^ k = m at hm
  omega
theorem i32_and_1023 (x : Int) (h0 : 0 ≤ x) (h1 : x < 2147483648) : bits .and .i32 x 1023 = x % 1024 := i32_mask 10 (by omega) x h0 h1
theorem i32_and_15 (x : Int) (h0 : 0 ≤ x) (h1 : x < 2147483648) : bits .and .i32 x 15 = x % 16 := i32_mask 4 (by omega) x h0 h1
theorem ret_two {v v' : Int} {k : IntKind} {b b' : Bool} (h : v = v') (g : b = b') : Ending.returned (.tuple #[.int k v, .bool b]) = .returned (.tuple #[.int k v', .bool b']) := by rw [h, g]
theorem ret_three {v v' x x' : Int} {k l : IntKind} {b b' : Bool} (h : v = v') (i : x = x') (g : b = b') : Ending.returned (.tuple #[.int k v, .int l x, .bool b]) = .returned (.tuple #[.int k v', .int l x', .bool b']) := by rw [h, i, g]

end Go.Proofs.Ytcoiddmgcoeocaa.Ucs
