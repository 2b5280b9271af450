/- JisHalf: the walk over the program's contracts. -/
import Derived.Test.YtkkdaoimnmghgaaRJ14
namespace Go.Proofs.Ytkkdaoimnmghgaa.C14
open Go.ChangeShapes Go.WideShapes Go.ChangeAt Go.RowKit Go.Proofs.Ytkkdaoimnmghgaa.Mem
set_option linter.unusedVariables false
set_option linter.unusedSimpArgs false

structure ConH (P : World → Prop) : Prop where
  keep : ∀ {w w' : World}, P w → w.grownBy w' none → P w'
  half : ∀ (b : Nat) (hb : b < 256) (w : World) (R : Option Nat) (hR : Hid (haR b = R)), P w → Calls Try.prog 20 #[.int .u8 (b : Int)] w fun e w' => e = .returned (.tuple #[.int .i32 ((R.getD 0 : Nat) : Int), .bool R.isSome]) ∧ w.grownBy w' none
  halfByte : ∀ (u : Int) (hu : I32 u) (w : World) (R : Option Nat) (hR : Hid (hbR u = R)), P w → Calls Try.prog 24 #[.int .i32 u] w fun e w' => e = .returned (.tuple #[.int .u8 ((R.getD 0 : Nat) : Int), .bool R.isSome]) ∧ w.grownBy w' none
theorem haR_le {b n : Nat} (hb : b < 256) (h : haR b = some n) : n ≤ 65535 := by
  have : ∀ b, b < 256 → ∀ n, haR b = some n → n ≤ 65535 := by decide +kernel
  exact this b hb n h
end Go.Proofs.Ytkkdaoimnmghgaa.C14
