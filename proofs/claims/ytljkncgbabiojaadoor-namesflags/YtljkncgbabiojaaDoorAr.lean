/- Variables that are arrays of integers, whole: made, built of constants, loaded, stored, sliced. -/
import Derived.Test.YtljkncgbabiojaaDoorMem
import Derived.Deep.WholeRow
import Derived.Laws.ResultCell
namespace Go.Proofs.YtljkncgbabiojaaDoor.Ar
open Go.RowKit Go.Proofs.YtljkncgbabiojaaDoor.Mem
set_option linter.unusedVariables false

/-- An array of integers as a value. -/
def arrV (q : IntKind) (zs : List Int) : Value := .agg (zs.map (Value.int q)).toArray
/-- Block b is a variable of the array type T with these integers. -/
def ArrAt (w : World) (b : Nat) (T : TypeId) (q : IntKind) (zs : List Int) : Prop := w.heap[b]? = some (.cells (zs.map (Value.int q)).toArray T (0, 0))
section
variable {P : Program} {w w' : World} {b T e n : Nat} {q : IntKind} {zs ys : List Int}
theorem ArrAt.lt (h : ArrAt w b T q zs) : b < w.heap.size := lt_of_block h
theorem ArrAt.cell (h : ArrAt w b T q zs) (j : Nat) (hj : j < zs.length) : w.cell? ⟨b, j, none⟩ = some (.int q zs[j]) := by
  unfold ArrAt at h
  simp [World.cell?, h, List.getElem?_eq_getElem hj]
theorem ArrAt.free (h : ArrAt w b T q zs) (j : Nat) : w.frozen? ⟨b, j, none⟩ = false := by
  unfold ArrAt at h
  simp [World.frozen?, h]
theorem ArrAt.kept {row : Option Nat} (h : ArrAt w b T q zs) (hg : w.grownBy w' row) (hne : some b ≠ row) : ArrAt w' b T q zs := (hg.block b h.lt hne).trans h
theorem ArrAt.kept0 (h : ArrAt w b T q zs) (hg : w.grownBy w' none) : ArrAt w' b T q zs := h.kept hg (by simp)
theorem ArrAt.set (h : ArrAt w b T q zs) (j : Nat) (z : Int) : ArrAt (w.setCell ⟨b, j, none⟩ (.int q z)) b T q (zs.set j z) := by
  unfold ArrAt at h ⊢
  have hlt := lt_of_block h
  have h' : w.heap[b] = .cells (zs.map (Value.int q)).toArray T (0, 0) := by simpa [Array.getElem?_eq_getElem hlt] using h
  have e : (w.setCell ⟨b, j, none⟩ (.int q z)).heap[b]? = some (.cells ((zs.map (Value.int q)).toArray.setIfInBounds j (.int q z)) T (0, 0)) := by
    show (w.heap.modify b _)[b]? = _
    rw [Array.getElem?_eq_getElem (by simpa using hlt), Array.getElem_modify_self, h']
    rfl
  rw [e]
  simp [List.map_set]
theorem ints_one (zs : List Int) : (zs.map (Value.int q)).toArray.all (·.oneCell') = true := by
  rw [Array.all_eq_true_iff_forall_mem]
  intro v hv
  simp at hv
  obtain ⟨z, _, rfl⟩ := hv
  rfl
theorem run_loadA (hu : P.underlying T = some (.array n e)) (hi : (P.info? T).map (·.size) = some n) (hl : zs.length = n) (h : ArrAt w b T q zs) : (loadVar T ⟨b, 0, none⟩).run P w = .ok (arrV q zs) w :=
  run_loadVar_row _ _ T T _ (0, 0) _ h hu rfl (by rw [hi]; simp [hl])
theorem run_storeA (hi : (P.info? T).map (·.size) = some n) (hl : zs.length = n) (hy : ys.length = n) (h : ArrAt w b T q zs) : ∃ w', (storeVar T ⟨b, 0, none⟩ (arrV q ys)).run P w = .ok () w' ∧ ArrAt w' b T q ys ∧ w.grownBy w' (some b) := by
  refine ⟨_, run_storeVar_row _ _ T T _ _ h (by rw [hi]; simp [hy]) (by simp [hl, hy]) (ints_one ys), ?_, ?_⟩
  · exact setRow_heap w b _ _ T _ h
  · exact ⟨rfl, rfl, rfl, by simp, fun k _ hk => setRow_other w b k _ (fun e => hk (by rw [e]))⟩
theorem ArrAt.new (w : World) (T : TypeId) (q : IntKind) (zs : List Int) : ArrAt (w.alloc (.cells (zs.map (Value.int q)).toArray T)) w.heap.size T q zs := heap_alloc_new w _
end
section
variable {P : Program} (w : World) {ops : Array Oper} {rest : List Oper} {o : Oper} {a : Act} {Q : Exit → Act → World → Prop} {q : IntKind}
theorem wpList_loadA (hg : o.guard = none) (T : TypeId) (x : Operand) (hop : o.op = Op.load T x) (n e : Nat) (hu : P.underlying T = some (.array n e)) (hi : (P.info? T).map (·.size) = some n) (b : Nat) (zs : List Int) (hl : zs.length = n)
    (hx : a.eval x = .pointer (some ⟨b, 0, none⟩)) (h : ArrAt w b T q zs) (hK : wpList P ops Q rest (a.put o.dst (arrV q zs)) w) : wpList P ops Q (o :: rest) a w := by
  refine wpList_plain hg fun K' hK' => ?_
  unfold Oper.wp execOp
  simp only [hop, hx, Instr.loadAt, Instr.sureAddr, Sem.run_bind, Sem.run_pure, Result.andThen_ok, run_loadA hu hi hl h]
  exact hK' _ _ hK
theorem wpList_storeA (hg : o.guard = none) (T : TypeId) (x y : Operand) (hop : o.op = Op.store T x y) (n : Nat) (hi : (P.info? T).map (·.size) = some n) (b : Nat) (zs ys : List Int) (hl : zs.length = n) (hy : ys.length = n)
    (hx : a.eval x = .pointer (some ⟨b, 0, none⟩)) (hv : a.eval y = arrV q ys) (h : ArrAt w b T q zs) (hK : ∀ w', ArrAt w' b T q ys → w.grownBy w' (some b) → wpList P ops Q rest (a.put o.dst undef) w') : wpList P ops Q (o :: rest) a w := by
  refine wpList_plain hg fun K' hK' => ?_
  obtain ⟨w', hr, h1, h2⟩ := run_storeA (P := P) hi hl hy h
  unfold Oper.wp execOp
  simp only [hop, hx, hv, Instr.storeAt, Instr.sureAddr, Sem.run_bind, Sem.run_pure, Result.andThen_ok, hr]
  exact hK' _ _ (hK w' h1 h2)
theorem wpList_allocA (hg : o.guard = none) (T : TypeId) (hop : o.op = Op.alloc T) (zs : List Int) (hz : (zeroValue T).run P w = .ok (arrV q zs) w)
    (hK : ∀ w', ArrAt w' w.heap.size T q zs → w.grownBy w' none → wpList P ops Q rest (a.put o.dst (.pointer (some ⟨w.heap.size, 0, none⟩))) w') : wpList P ops Q (o :: rest) a w := by
  refine wpList_plain hg fun K' hK' => ?_
  have hr : (Instr.alloc T true (.tuple #[])).run P w = .ok (.pointer (some ⟨w.heap.size, 0, none⟩)) (w.alloc (.cells (zs.map (Value.int q)).toArray T)) := by
    simp [Instr.alloc, Sem.run_bind, hz, Result.andThen, newVar, newRow, arrV, Value.cells]
  unfold Oper.wp execOp
  simp only [hop, Sem.run_bind, Sem.run_pure, Result.andThen_ok, hr]
  exact hK' _ _ (hK _ (ArrAt.new w T q zs) (World.grownBy_alloc _ _ _))
theorem wpList_boxA (hg : o.guard = none) (T : TypeId) (x : Operand) (hop : o.op = Op.box T x) (zs : List Int) (hx : a.eval x = arrV q zs)
    (hK : ∀ w', ArrAt w' w.heap.size T q zs → w.grownBy w' none → wpList P ops Q rest (a.put o.dst (.pointer (some ⟨w.heap.size, 0, none⟩))) w') : wpList P ops Q (o :: rest) a w := by
  refine wpList_plain hg fun K' hK' => ?_
  have hr : (Instr.box T (arrV q zs)).run P w = .ok (.pointer (some ⟨w.heap.size, 0, none⟩)) (w.alloc (.cells (zs.map (Value.int q)).toArray T)) := by
    simp [Instr.box, Result.andThen, newVar, newRow, arrV, Value.cells]
  unfold Oper.wp execOp
  simp only [hop, hx, Sem.run_bind, Sem.run_pure, Result.andThen_ok, hr]
  exact hK' _ _ (hK _ (ArrAt.new w T q zs) (World.grownBy_alloc _ _ _))
end


theorem arrV_size (q : IntKind) (zs : List Int) {n : Nat} (h : zs.length = n) : (arrV q zs).cells.size = n := by
  have e : (arrV q zs).cells = (zs.map (Value.int q)).toArray := rfl
  rw [e, List.size_toArray, List.length_map, h]
/-- Constants laid into an array, one behind the other. -/
theorem fill_ints (q : IntKind) : ∀ (l : List Int) (k : Nat) (a : Array Value), k + l.length ≤ a.size → Instr.fill (fun i => some (i * 1, 1)) a ((l.zipIdx k).map (fun p => (p.2, Value.int q p.1))) = some (a.toList.take k ++ l.map (Value.int q) ++ a.toList.drop (k + l.length)).toArray
  | [], k, a, _ => by simp [Instr.fill]
  | x :: r, k, a, h => by
    rw [List.length_cons] at h
    have hk : k < a.toList.length := by simp; omega
    have ih := fill_ints q r (k + 1) (a.setIfInBounds k (.int q x)) (by simp; omega)
    rw [List.zipIdx_cons, List.map_cons]
    unfold Instr.fill
    simp only [Nat.mul_one]
    have hc : (Value.int q x).cells = #[.int q x] := rfl
    rw [hc]
    simp only [Nat.mul_one] at ih
    rw [if_neg (by simp; omega)]
    have hf : (#[Value.int q x].zipIdx.foldl (fun (cs : Array Value) (p : Value × Nat) => cs.setIfInBounds (k + p.2) p.1) a) = a.setIfInBounds k (.int q x) := by simp
    rw [hf, ih]
    have e1 : (a.setIfInBounds k (.int q x)).toList = a.toList.set k (.int q x) := by simp
    rw [e1]
    have e2 : (a.toList.set k (Value.int q x)).take (k + 1) = a.toList.take k ++ [.int q x] := by
      rw [List.take_succ_eq_append_getElem (by rw [List.length_set]; exact hk), List.take_set, List.set_eq_of_length_le (by simp; omega), List.getElem_set_self]
    have e3 : (a.toList.set k (Value.int q x)).drop (k + 1 + r.length) = a.toList.drop (k + (r.length + 1)) := by
      rw [List.drop_set_of_lt (by omega)]
      congr 1
      omega
    rw [e2, e3, List.length_cons]
    simp
theorem run_buildA {P : Program} (w : World) {T e n : Nat} {q : IntKind} (hu : P.underlying T = some (.array n e)) (z : Value) (hz : (P.info? T).bind (·.zero) = some z) (hzn : z.cells.size = n) (he : (P.info? e).map (·.size) = some 1) (zs : List Int) (hl : zs.length = n) (parts : List (Nat × Value)) (hp : parts = zs.zipIdx.map (fun p => (p.2, Value.int q p.1))) :
    (Instr.build T parts.toArray).run P w = .ok (arrV q zs) w := by
  refine run_build w T _ _ ?_
  subst hp
  have hf := fill_ints q zs 0 z.cells (by omega)
  unfold Program.built
  cases hi : P.info? T with
  | none => simp [hi] at hz
  | some it =>
    simp only [hi, Option.bind_some] at hz
    cases hie : P.info? e with
    | none => simp [hie] at he
    | some ie =>
      simp only [hie, Option.map_some, Option.some.injEq] at he
      simp only [hu, hz, he, hie]
      rw [hf]
      simp only [List.take_zero, List.nil_append, Nat.zero_add]
      rw [List.drop_of_length_le (by simp; omega), List.append_nil]
theorem wpList_buildA {P : Program} (w : World) {ops : Array Oper} {rest : List Oper} {o : Oper} {a : Act} {Q : Exit → Act → World → Prop} {q : IntKind} (hg : o.guard = none) (T : TypeId) (parts : List (Nat × Operand)) (hop : o.op = Op.build T parts.toArray) (n e : Nat) (hu : P.underlying T = some (.array n e)) (z : Value) (hz : (P.info? T).bind (·.zero) = some z) (hzn : z.cells.size = n) (he : (P.info? e).map (·.size) = some 1) (zs : List Int) (hl : zs.length = n)
    (hp : parts = zs.zipIdx.map (fun p => (p.2, Operand.const (Value.int q p.1)))) (hK : wpList P ops Q rest (a.put o.dst (arrV q zs)) w) : wpList P ops Q (o :: rest) a w := by
  refine wpList_plain hg fun K' hK' => ?_
  unfold Oper.wp execOp
  have hr := run_buildA (P := P) (q := q) w hu z hz hzn he zs hl (parts.map fun p => (p.1, a.eval p.2)) (by subst hp; simp [List.map_map, Function.comp_def, Act.eval])
  simp only [hop, List.map_toArray, Sem.run_bind, Sem.run_pure, Result.andThen_ok, hr]
  exact hK' _ _ hK
/-- An array without parts: zero. -/
theorem run_buildZ {P : Program} (w : World) {T e n : Nat} {q : IntKind} (hu : P.underlying T = some (.array n e)) (zs : List Int) (hz : (P.info? T).bind (·.zero) = some (arrV q zs)) (he : (P.info? e).map (·.size) = some 1) :
    (Instr.build T #[]).run P w = .ok (arrV q zs) w := by
  refine run_build w T _ _ ?_
  unfold Program.built
  cases hi : P.info? T with
  | none => simp [hi] at hz
  | some it =>
    simp only [hi, Option.bind_some] at hz
    cases hie : P.info? e with
    | none => simp [hie] at he
    | some ie =>
      simp only [hie, Option.map_some, Option.some.injEq] at he
      simp only [hu, hz, he, hie]
      simp [Instr.fill, arrV, Value.cells]
theorem wpList_buildZ {P : Program} (w : World) {ops : Array Oper} {rest : List Oper} {o : Oper} {a : Act} {Q : Exit → Act → World → Prop} {q : IntKind} (hg : o.guard = none) (T : TypeId) (hop : o.op = Op.build T #[]) (n e : Nat) (hu : P.underlying T = some (.array n e)) (zs : List Int) (hz : (P.info? T).bind (·.zero) = some (arrV q zs)) (he : (P.info? e).map (·.size) = some 1)
    (hK : wpList P ops Q rest (a.put o.dst (arrV q zs)) w) : wpList P ops Q (o :: rest) a w := by
  refine wpList_plain hg fun K' hK' => ?_
  unfold Oper.wp execOp
  have hr := run_buildZ (P := P) (q := q) w hu zs hz he
  simp only [hop, List.map_toArray, List.map_nil, Sem.run_bind, Sem.run_pure, Result.andThen_ok, hr]
  exact hK' _ _ hK
theorem results_cell_row_tmp {P : Program} {fn : Func} {p u : Tmp} {ty : TypeId} (h : fn.results = #[.cell p ty, .tmp u]) (tmps : Array Value) (w : World) (g : Nat) (t : TypeId) (cs : Array Value) (fr : Nat × Nat) (d : TypeDesc)
    (hp : tmps.getD p undef = .pointer (some ⟨g, 0, none⟩)) (hg : w.heap[g]? = some (.cells cs t fr))
    (hu : P.underlying ty = some d) (hd : (match d with | .struct _ | .array _ _ => true | _ => false) = true) (hi : (P.info? ty).map (·.size) = some cs.size) (v : Value) (hv : tmps.getD u undef = v) :
    (results fn tmps).run P w = .ok (.tuple #[.agg cs, v]) w := by
  rw [results_cell_tmp h, hp, hv]
  simp [asAddr, run_loadVar_row w g t ty cs fr d hg hu hd hi]
end Go.Proofs.YtljkncgbabiojaaDoor.Ar
