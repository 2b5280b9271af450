/- Whether a beginning leads on to a unit: a walk. -/
import Derived.Test.YtjhdepbiakekaaaFormS
namespace Go.Proofs.Ytjhdepbiakekaaa.U8
open Go.ChangeShapes Go.WideShapes Go.ChangeAt Go.RowKit Go.Proofs.Ytjhdepbiakekaaa.Mem Go.Proofs.Ytjhdepbiakekaaa.Ucs
set_option linter.unusedVariables false

/-- Does some unit of the form k begin with n bytes whose bits are u? -/
def leads (k n : Nat) (u : Nat) : Bool :=
  decide (fleast k ≤ u * 2 ^ (6 * (fsize k - n)) + (2 ^ (6 * (fsize k - n)) - 1)) && scB ((u * 2 ^ (6 * (fsize k - n)) : Nat) : Int)

theorem i32_or (k a b x : Nat) (hk : k ≤ 30) (hb : b < 2 ^ k) (hx : x = a * 2 ^ k) (h : x + b < 2147483648) : bits .or .i32 (x : Int) (b : Int) = ((x + b : Nat) : Int) := by
  have e1 : (BitVec.ofInt 32 (x : Int)).toNat = x := by rw [BitVec.ofInt_natCast, BitVec.toNat_ofNat]; exact Nat.mod_eq_of_lt (by omega)
  have e2 : (BitVec.ofInt 32 (b : Int)).toNat = b := by rw [BitVec.ofInt_natCast, BitVec.toNat_ofNat]; exact Nat.mod_eq_of_lt (by omega)
  show IntKind.i32.wrap ((BitVec.ofInt 32 (x : Int) ||| BitVec.ofInt 32 (b : Int)).toNat : Int) = _
  have e3 := Nat.two_pow_add_eq_or_of_lt hb a
  rw [BitVec.toNat_or, e1, e2, hx, Nat.mul_comm a, ← e3, IntKind.wrap_i32]
  have e4 : 2 ^ k * a = x := by rw [hx, Nat.mul_comm]
  rw [e4]
  omega
theorem wrap_nat (x : Nat) (h : x < 2147483648) : wrap32 (x : Int) = (x : Int) := by unfold wrap32; omega
theorem or_zero (u : Nat) (h : u < 2147483648) : bits .or .i32 (u : Int) 0 = (u : Int) := i32_or 0 u 0 u (by omega) (by decide) (by simp) (by omega)
theorem leads_of (k n u x y : Nat) (hx : x = u * 2 ^ (6 * (fsize k - n))) (hy : y = x + (2 ^ (6 * (fsize k - n)) - 1)) : leads k n u = (decide (fleast k ≤ y) && scB (x : Int)) := by
  subst hy; subst hx; rfl

end Go.Proofs.Ytjhdepbiakekaaa.U8
