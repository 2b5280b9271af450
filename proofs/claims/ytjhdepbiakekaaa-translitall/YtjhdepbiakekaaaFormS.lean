/- The form of a scalar: a walk. -/
import Derived.Test.YtjhdepbiakekaaaForms
namespace Go.Proofs.Ytjhdepbiakekaaa.U8
open Go.ChangeShapes Go.WideShapes Go.ChangeAt Go.RowKit Go.Proofs.Ytjhdepbiakekaaa.Mem
set_option linter.unusedVariables false

theorem block_set {w : World} {b : Nat} {cs : Array Value} {t : TypeId} {fr : Nat × Nat} (h : w.heap[b]? = some (.cells cs t fr)) (i : Nat) (v : Value) : (w.setCell ⟨b, i, none⟩ v).heap[b]? = some (.cells (cs.setIfInBounds i v) t fr) := by
  have hlt := lt_of_block h
  have h' : w.heap[b] = .cells cs t fr := by simpa [Array.getElem?_eq_getElem hlt] using h
  show (w.heap.modify b _)[b]? = _
  rw [Array.getElem?_eq_getElem (by simpa using hlt), Array.getElem_modify_self, h']
  rfl
theorem block_other {w : World} {b b' : Nat} {o : Obj} (h : w.heap[b]? = some o) (hne : b' ≠ b) (i : Nat) (v : Value) : (w.setCell ⟨b', i, none⟩ v).heap[b]? = some o := by
  rw [Below.heap_setCell _ _ _ _ (fun e => hne e.symm)]
  exact h

/-- The cells of the form of that number. -/
def formA (k : Nat) : Array Value := #[.int .i64 (fsize k : Int), .int .u8 (fmask k : Int), .int .u8 (fmark k : Int), .int .i32 (fleast k : Int)]
/-- The form that is kept behind k rounds. -/
def kept (u : Int) (k : Nat) : Nat := if k = 0 then 0 else min (k - 1) (ixS u)
theorem ixS_iff (u : Int) : (1 ≤ ixS u ↔ 128 ≤ u) ∧ (2 ≤ ixS u ↔ 2048 ≤ u) ∧ (3 ≤ ixS u ↔ 65536 ≤ u) ∧ ixS u ≤ 3 := by
  unfold ixS
  repeat' split
  all_goals omega

end Go.Proofs.Ytjhdepbiakekaaa.U8
