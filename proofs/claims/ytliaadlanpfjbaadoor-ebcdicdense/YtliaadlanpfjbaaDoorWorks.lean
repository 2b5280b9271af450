/- The step of utf8 as the layers above call it; a new row of bytes. -/
import Derived.Test.YtliaadlanpfjbaaDoorGet
import Derived.Test.YtliaadlanpfjbaaDoorMath
namespace Go.Proofs.YtliaadlanpfjbaaDoor.U8
open Go.ChangeShapes Go.WideShapes Go.ChangeAt Go.RowKit Go.Proofs.YtliaadlanpfjbaaDoor.Mem Go.Proofs.YtliaadlanpfjbaaDoor.Ucs
set_option linter.unusedVariables false

theorem get_at (ao : Option Addr) (n cap : Nat) (L : List UInt8) (w : World) (hF : Forms w) (hB : Bytes w ao L) (hn : L.length = n) (hl : n ≤ 140737488355328) (R : Res) (hR : get L = R) :
    Calls Tryd.prog 18 #[.slice ao n cap] w fun e w' => e = .returned (gotV R.err (R.n : Int) R.k (R.a : Int)) ∧ w.grownBy w' none := by
  subst hn; subst hR; exact get_any ao cap L w hF hB hl
theorem bytes_new (w : World) (cs : Array Value) (L : List UInt8) (h : cs.toList = bcells L) : Bytes (w.alloc (.cells cs 5)) (some ⟨w.heap.size, 0, none⟩) L := by
  refine .inr ⟨_, rfl, fun j hj => ?_⟩
  rw [addr_add, Nat.zero_add]
  have e : cs[j]? = some (.int .u8 (L[j].toNat : Int)) := by
    rw [← Array.getElem?_toList, h]
    simp [bcells, List.getElem?_eq_getElem hj]
  exact cell_at (heap_alloc_new w _) j e
end Go.Proofs.YtliaadlanpfjbaaDoor.U8
