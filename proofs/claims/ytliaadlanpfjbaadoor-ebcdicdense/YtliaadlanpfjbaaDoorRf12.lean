/- The document's Has, Scalar, Byte: walks. -/
import Derived.Test.YtliaadlanpfjbaaDoorAt12
namespace Go.Proofs.YtliaadlanpfjbaaDoor.C12
open Go.ChangeShapes Go.WideShapes Go.ChangeAt Go.RowKit Go.Proofs.YtliaadlanpfjbaaDoor.Mem
set_option linter.unusedVariables false
set_option linter.unusedSimpArgs false

theorem dig4_nil {l : List Nat} (h : dig4 l = []) : l = [] := by
  have := dig4_len l
  rw [h] at this
  exact List.length_eq_zero_iff.1 (by simp at this; omega)
/-- The scalar of a byte; the byte of a number. -/
def scI (k : Int) (b : Nat) : Option Nat := if k ∈ kinds then (if atR k b = 65533 then none else some (atR k b)) else none
def byI (k : Int) (u : Int) : Option Nat := if k ∈ kinds then (if u = 65533 then none else (List.range 256).find? (fun b => (atR k b : Int) == u)) else none
theorem gt {a b c : World} {row : Option Nat} (h : a.grownBy b row) (k : b.grownBy c row) : a.grownBy c row := ⟨k.os.trans h.os, k.tape.trans h.tape, k.output.trans h.output, Nat.le_trans h.size k.size, fun i hi hn => (k.block i (Nat.lt_of_lt_of_le hi h.size) hn).trans (h.block i hi hn)⟩
theorem find_from (p : Nat → Bool) : ∀ (n i : Nat), i ≤ n → (∀ j, j < i → p j = false) → (List.range n).find? p = (if h : i < n then (if p i = true then some i else (List.range' (i + 1) (n - (i + 1))).find? p) else none) := by
  intro n i hi hb
  have e : List.range n = List.range i ++ List.range' i (n - i) := by
    have h := List.range'_append (s := 0) (m := i) (n := n - i) (step := 1)
    rw [show i + (n - i) = n by omega, Nat.one_mul, Nat.zero_add] at h
    rw [List.range_eq_range', List.range_eq_range']
    exact h.symm
  rw [e, List.find?_append, List.find?_eq_none.2 (fun x hx => by rw [hb x (List.mem_range.1 hx)]; simp), Option.none_or]
  split
  · rename_i h
    rw [show n - i = (n - (i + 1)) + 1 by omega, List.range'_succ, List.find?_cons]
    cases hp : p i <;> simp
  · rename_i h
    rw [show n - i = 0 by omega]
    rfl
end Go.Proofs.YtliaadlanpfjbaaDoor.C12
