/- That the program works at all: four calls that the laws begin with. -/
import Derived.Test.YtjhdepbiakekaaaGet
import Derived.Test.YtjhdepbiakekaaaSet
import Derived.Test.YtjhdepbiakekaaaMath
namespace Go.Proofs.Ytjhdepbiakekaaa.U8
open Go.ChangeShapes Go.WideShapes Go.ChangeAt Go.RowKit Go.Proofs.Ytjhdepbiakekaaa.Mem Go.Proofs.Ytjhdepbiakekaaa.Ucs
set_option linter.unusedVariables false

theorem put_err (e : Int) (s : ByteArray) (w : World) : (Instr.field 47 (putV e s) 0).run Try.prog w = .ok (.int .i64 e) w := by kernel_rfl
theorem put_bytes (e : Int) (s : ByteArray) (w : World) : (Instr.field 47 (putV e s) 1).run Try.prog w = .ok (.string s) w := by kernel_rfl
theorem bytes_new (w : World) (cs : Array Value) (L : List UInt8) (h : cs.toList = bcells L) : Bytes (w.alloc (.cells cs 5)) (some ⟨w.heap.size, 0, none⟩) L := by
  refine .inr ⟨_, rfl, fun j hj => ?_⟩
  rw [addr_add, Nat.zero_add]
  have e : cs[j]? = some (.int .u8 (L[j].toNat : Int)) := by
    rw [← Array.getElem?_toList, h]
    simp [bcells, List.getElem?_eq_getElem hj]
  exact cell_at (heap_alloc_new w _) j e

end Go.Proofs.Ytjhdepbiakekaaa.U8
