/- Operations of a drawn region that make or store whole variables; two that may come in either order. -/
import Derived.Test.YtdobjijebalkkaaCb
import Derived.Test.YtdobjijebalkkaaConvApp
import Derived.Deep.RegionHeld3
namespace Go.Proofs.Ytdobjijebalkkaa.Cb
open Go.RowKit Go.Proofs.Ytdobjijebalkkaa.Mem
set_option linter.unusedVariables false

section
variable {P : Program} {w : World} {ops : Array Oper} {o : Oper} {a : Act} {K : Act → World → Prop} {Q : Exit → Act → World → Prop} {E : Prop}
theorem step_allocC (hw : Region.wanted o (yielded ops a.tmps) = true) (T : TypeId) (hop : o.op = Op.alloc T) (cs : Array Value) (hz : (zeroValue T).run P w = .ok (.agg cs) w)
    (hK : ∀ w', CA w' w.heap.size T cs → w.grownBy w' none → K (a.put o.dst (.pointer (some ⟨w.heap.size, 0, none⟩))) w') : if Region.wanted o (yielded ops a.tmps) = true then Oper.wp P o a w K Q else E := by
  rw [if_pos hw]
  have hr : (Instr.alloc T true (.tuple #[])).run P w = .ok (.pointer (some ⟨w.heap.size, 0, none⟩)) (w.alloc (.cells cs T)) := by
    simp [Instr.alloc, Sem.run_bind, hz, Result.andThen, newVar, newRow, Value.cells]
  unfold Oper.wp execOp
  simp only [hop, Sem.run_bind, Sem.run_pure, Result.andThen_ok, hr]
  exact hK _ (heap_alloc_new w _) (World.grownBy_alloc _ _ _)
theorem step_storeC (hw : Region.wanted o (yielded ops a.tmps) = true) (T : TypeId) (x y : Operand) (hop : o.op = Op.store T x y) (b : Nat) (cs ys : Array Value) (hi : (P.info? T).map (·.size) = some ys.size) (hs : cs.size = ys.size) (h1 : ys.all (·.oneCell') = true)
    (hx : a.eval x = .pointer (some ⟨b, 0, none⟩)) (hv : a.eval y = .agg ys) (h : CA w b T cs) (hK : ∀ w', CA w' b T ys → w.grownBy w' (some b) → K (a.put o.dst undef) w') : if Region.wanted o (yielded ops a.tmps) = true then Oper.wp P o a w K Q else E := by
  rw [if_pos hw]
  have hr := run_storeVar_row (P := P) w b T T cs ys h hi hs h1
  unfold Oper.wp execOp
  simp only [hop, hx, hv, Instr.storeAt, Instr.sureAddr, Sem.run_bind, Sem.run_pure, Result.andThen_ok, hr]
  refine hK _ (setRow_heap w b _ _ T _ h) ?_
  exact ⟨rfl, rfl, rfl, by simp, fun k _ hk => setRow_other w b k _ (fun e => hk (by rw [e]))⟩
end
end Go.Proofs.Ytdobjijebalkkaa.Cb
