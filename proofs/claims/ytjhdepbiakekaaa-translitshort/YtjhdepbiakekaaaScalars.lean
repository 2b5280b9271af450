/- The program's Scalars: a walk. -/
import Derived.Test.YtjhdepbiakekaaaWorks
import Derived.Test.YtjhdepbiakekaaaScan
import Derived.Test.YtjhdepbiakekaaaMemR
import Derived.Deep.QuietTactic
import Derived.BigQuiet
namespace Go.Proofs.Ytjhdepbiakekaaa.U8
open Go.ChangeShapes Go.WideShapes Go.ChangeAt Go.RowKit Go.Proofs.Ytjhdepbiakekaaa.Mem Go.Proofs.Ytjhdepbiakekaaa.Ucs
set_option linter.unusedVariables false

theorem info21 : (Try.prog.info? 21).map (fun i => (i.zero, i.size, i.bytes)) = some (some (.int .i32 0), 1, 4) := by kernel_rfl
def ints (l : List Nat) : List Int := l.map fun (u : Nat) => (u : Int)
theorem own_rune (w : World) (z : Int) : MemR.Bytes (w.alloc (.cells #[.int .i32 z] 21)) (some ⟨w.heap.size, 0, none⟩) [z] := by
  refine .inr ⟨_, rfl, fun j hj => ?_⟩
  rw [addr_add, Nat.zero_add]
  have : j = 0 := by simpa using hj
  subst this
  exact cell_at (heap_alloc_new w _) 0 rfl

theorem kept_new {w1 w2 : World} {cs : Array Value} {t : TypeId} {x : Obj} {ro : Option Addr} (hg : ((w1.alloc (.cells cs t)).alloc x).grownBy w2 (blk ro)) (hlt : ∀ g, blk ro = some g → g < w1.heap.size) (i : Nat) {v : Value} (hv : cs[i]? = some v) : w2.cell? ⟨w1.heap.size, i, none⟩ = some v :=
  hg.cell (cell_at (res_alloc (heap_alloc_new w1 (.cells cs t)) x) i hv) (fun e => by have := hlt _ e.symm; simp at this)
theorem own_rune2 (w : World) (o : Obj) (z : Int) : MemR.Bytes ((w.alloc o).alloc (.cells #[.int .i32 z] 21)) (some ⟨w.heap.size + 1, 0, none⟩) [z] := by
  have := own_rune (w.alloc o) z
  have e : (w.alloc o).heap.size = w.heap.size + 1 := by simp
  rwa [e] at this

end Go.Proofs.Ytjhdepbiakekaaa.U8
