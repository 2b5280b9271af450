/- The document's Scalar of a row and a cell: a walk. -/
import Derived.Test.YtdphkpjamclhjaaRA16
namespace Go.Proofs.Ytdphkpjamclhjaa.C16
open Go.ChangeShapes Go.WideShapes Go.ChangeAt Go.RowKit Go.Proofs.Ytdphkpjamclhjaa.Mem
set_option linter.unusedVariables false
set_option linter.unusedSimpArgs false

def I64 (k : Int) : Prop := -9223372036854775808 ≤ k ∧ k ≤ 9223372036854775807
def I32 (k : Int) : Prop := -2147483648 ≤ k ∧ k ≤ 2147483647
theorem gt {a b c : World} {row : Option Nat} (h : a.grownBy b row) (k : b.grownBy c row) : a.grownBy c row := ⟨k.os.trans h.os, k.tape.trans h.tape, k.output.trans h.output, Nat.le_trans h.size k.size, fun i hi hn => (k.block i (Nat.lt_of_lt_of_le hi h.size) hn).trans (h.block i hi hn)⟩
/-- What stands in a row's cell (from 0 on); what Scalar answers. -/
def cellR (k : Int) (j : Nat) : Nat := (tab k).getD j 0
def scP (k c : Int) : Option Nat := if k ∈ kinds ∧ 1 ≤ c ∧ c ≤ 94 then (if cellR k (c - 1).toNat = 65533 then none else some (cellR k (c - 1).toNat)) else none
theorem dig4_nil {l : List Nat} (h : dig4 l = []) : l = [] := by
  have := dig4_len l
  rw [h] at this
  exact List.length_eq_zero_iff.1 (by simp at this; omega)
end Go.Proofs.Ytdphkpjamclhjaa.C16
