/- Variables that are whole structs or arrays, whatever their cells: made, boxed, loaded, stored. -/
import Derived.Test.YtljkncgbabiojaaDoorBlk
import Derived.Deep.WholeRow
import Derived.Laws.ResultCell
namespace Go.Proofs.YtljkncgbabiojaaDoor.Cb
open Go.RowKit Go.Proofs.YtljkncgbabiojaaDoor.Mem
set_option linter.unusedVariables false

/-- Block b is a variable of the type T with these cells. -/
def CA (w : World) (b : Nat) (T : TypeId) (cs : Array Value) : Prop := w.heap[b]? = some (.cells cs T (0, 0))
theorem CA.lt {w : World} {b T : Nat} {cs : Array Value} (h : CA w b T cs) : b < w.heap.size := lt_of_block h
theorem CA.cell {w : World} {b T : Nat} {cs : Array Value} (h : CA w b T cs) (i : Nat) {v : Value} (hv : cs[i]? = some v) : w.cell? ⟨b, i, none⟩ = some v := cell_at h i hv
theorem CA.free {w : World} {b T : Nat} {cs : Array Value} (h : CA w b T cs) (i : Nat) : w.frozen? ⟨b, i, none⟩ = false := froz_at h i
theorem CA.kept {w w' : World} {b T : Nat} {cs : Array Value} {row : Option Nat} (h : CA w b T cs) (hg : w.grownBy w' row) (hne : some b ≠ row) : CA w' b T cs := (hg.block b h.lt hne).trans h
theorem CA.kept0 {w w' : World} {b T : Nat} {cs : Array Value} (h : CA w b T cs) (hg : w.grownBy w' none) : CA w' b T cs := h.kept hg (by simp)
theorem CA.set {w : World} {b T : Nat} {cs : Array Value} (h : CA w b T cs) (i : Nat) (v : Value) : CA (w.setCell ⟨b, i, none⟩ v) b T (cs.setIfInBounds i v) := block_set h i v
theorem CA.other {w : World} {b c T : Nat} {cs : Array Value} (h : CA w b T cs) (hne : c ≠ b) (i : Nat) (v : Value) : CA (w.setCell ⟨c, i, none⟩ v) b T cs := block_other h hne i v
/-- Two blocks of different sizes or types are two. -/
theorem CA.ne {w : World} {b c T U : Nat} {cs ds : Array Value} (h : CA w b T cs) (k : CA w c U ds) (hT : T ≠ U) : b ≠ c := by
  intro e
  subst e
  rw [CA, k] at h
  injection h with h
  injection h with _ h _
  exact hT h.symm
section
variable {P : Program} (w : World) {ops : Array Oper} {rest : List Oper} {o : Oper} {a : Act} {Q : Exit → Act → World → Prop}
theorem wpList_loadC (hg : o.guard = none) (T : TypeId) (x : Operand) (hop : o.op = Op.load T x) (d : TypeDesc) (hu : P.underlying T = some d) (hd : (match d with | .struct _ | .array _ _ => true | _ => false) = true) (b : Nat) (cs : Array Value) (hi : (P.info? T).map (·.size) = some cs.size)
    (hx : a.eval x = .pointer (some ⟨b, 0, none⟩)) (h : CA w b T cs) (hK : wpList P ops Q rest (a.put o.dst (.agg cs)) w) : wpList P ops Q (o :: rest) a w := by
  refine wpList_plain hg fun K' hK' => ?_
  unfold Oper.wp execOp
  simp only [hop, hx, Instr.loadAt, Instr.sureAddr, Sem.run_bind, Sem.run_pure, Result.andThen_ok, run_loadVar_row w b T T cs (0, 0) d h hu hd hi]
  exact hK' _ _ hK
theorem wpList_storeC (hg : o.guard = none) (T : TypeId) (x y : Operand) (hop : o.op = Op.store T x y) (b : Nat) (cs ys : Array Value) (hi : (P.info? T).map (·.size) = some ys.size) (hs : cs.size = ys.size) (h1 : ys.all (·.oneCell') = true)
    (hx : a.eval x = .pointer (some ⟨b, 0, none⟩)) (hv : a.eval y = .agg ys) (h : CA w b T cs) (hK : ∀ w', CA w' b T ys → w.grownBy w' (some b) → wpList P ops Q rest (a.put o.dst undef) w') : wpList P ops Q (o :: rest) a w := by
  refine wpList_plain hg fun K' hK' => ?_
  have hr := run_storeVar_row (P := P) w b T T cs ys h hi hs h1
  unfold Oper.wp execOp
  simp only [hop, hx, hv, Instr.storeAt, Instr.sureAddr, Sem.run_bind, Sem.run_pure, Result.andThen_ok, hr]
  refine hK' _ _ (hK _ (setRow_heap w b _ _ T _ h) ?_)
  exact ⟨rfl, rfl, rfl, by simp, fun k _ hk => setRow_other w b k _ (fun e => hk (by rw [e]))⟩
theorem wpList_allocC (hg : o.guard = none) (T : TypeId) (hop : o.op = Op.alloc T) (cs : Array Value) (hz : (zeroValue T).run P w = .ok (.agg cs) w)
    (hK : ∀ w', CA w' w.heap.size T cs → w.grownBy w' none → wpList P ops Q rest (a.put o.dst (.pointer (some ⟨w.heap.size, 0, none⟩))) w') : wpList P ops Q (o :: rest) a w := by
  refine wpList_plain hg fun K' hK' => ?_
  have hr : (Instr.alloc T true (.tuple #[])).run P w = .ok (.pointer (some ⟨w.heap.size, 0, none⟩)) (w.alloc (.cells cs T)) := by
    simp [Instr.alloc, Sem.run_bind, hz, Result.andThen, newVar, newRow, Value.cells]
  unfold Oper.wp execOp
  simp only [hop, Sem.run_bind, Sem.run_pure, Result.andThen_ok, hr]
  exact hK' _ _ (hK _ (heap_alloc_new w _) (World.grownBy_alloc _ _ _))
theorem wpList_boxC (hg : o.guard = none) (T : TypeId) (x : Operand) (hop : o.op = Op.box T x) (cs : Array Value) (hx : a.eval x = .agg cs)
    (hK : ∀ w', CA w' w.heap.size T cs → w.grownBy w' none → wpList P ops Q rest (a.put o.dst (.pointer (some ⟨w.heap.size, 0, none⟩))) w') : wpList P ops Q (o :: rest) a w := by
  refine wpList_plain hg fun K' hK' => ?_
  have hr : (Instr.box T (.agg cs)).run P w = .ok (.pointer (some ⟨w.heap.size, 0, none⟩)) (w.alloc (.cells cs T)) := by
    simp [Instr.box, Result.andThen, newVar, newRow, Value.cells]
  unfold Oper.wp execOp
  simp only [hop, hx, Sem.run_bind, Sem.run_pure, Result.andThen_ok, hr]
  exact hK' _ _ (hK _ (heap_alloc_new w _) (World.grownBy_alloc _ _ _))
end
end Go.Proofs.YtljkncgbabiojaaDoor.Cb
