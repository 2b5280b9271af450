/- Variables that are arrays of integers, whole: made, loaded, stored. -/
import Derived.Test.YtcoiddmgcoeocaaAk
import Derived.Test.YtcoiddmgcoeocaaMem
import Derived.Deep.WholeRow
namespace Go.Proofs.Ytcoiddmgcoeocaa.Tr
open Go.RowKit Go.Proofs.Ytcoiddmgcoeocaa.Mem
set_option linter.unusedVariables false

/-- Block b is a variable of the array type T with these integers. -/
def ArrAt (w : World) (b : Nat) (T : TypeId) (q : IntKind) (zs : List Int) : Prop := w.heap[b]? = some (.cells (zs.map (Value.int q)).toArray T (0, 0))
section
variable {P : Program} {w w' : World} {b T e n : Nat} {q : IntKind} {zs ys : List Int}
theorem ArrAt.lt (h : ArrAt w b T q zs) : b < w.heap.size := lt_of_block h
theorem ArrAt.cell (h : ArrAt w b T q zs) (j : Nat) (hj : j < zs.length) : w.cell? ⟨b, j, none⟩ = some (.int q zs[j]) := by
  unfold ArrAt at h
  simp [World.cell?, h, List.getElem?_eq_getElem hj]
theorem ArrAt.free (h : ArrAt w b T q zs) (j : Nat) : w.frozen? ⟨b, j, none⟩ = false := by
  unfold ArrAt at h
  simp [World.frozen?, h]
theorem ArrAt.kept {row : Option Nat} (h : ArrAt w b T q zs) (hg : w.grownBy w' row) (hne : some b ≠ row) : ArrAt w' b T q zs := (hg.block b h.lt hne).trans h
theorem ArrAt.kept0 (h : ArrAt w b T q zs) (hg : w.grownBy w' none) : ArrAt w' b T q zs := h.kept hg (by simp)
theorem ArrAt.set (h : ArrAt w b T q zs) (j : Nat) (z : Int) : ArrAt (w.setCell ⟨b, j, none⟩ (.int q z)) b T q (zs.set j z) := by
  unfold ArrAt at h ⊢
  have hlt := lt_of_block h
  have h' : w.heap[b] = .cells (zs.map (Value.int q)).toArray T (0, 0) := by simpa [Array.getElem?_eq_getElem hlt] using h
  have e : (w.setCell ⟨b, j, none⟩ (.int q z)).heap[b]? = some (.cells ((zs.map (Value.int q)).toArray.setIfInBounds j (.int q z)) T (0, 0)) := by
    show (w.heap.modify b _)[b]? = _
    rw [Array.getElem?_eq_getElem (by simpa using hlt), Array.getElem_modify_self, h']
    rfl
  rw [e]
  simp [List.map_set]
theorem ints_one (zs : List Int) : (zs.map (Value.int q)).toArray.all (·.oneCell') = true := by
  rw [Array.all_eq_true_iff_forall_mem]
  intro v hv
  simp at hv
  obtain ⟨z, _, rfl⟩ := hv
  rfl
theorem run_loadA (hu : P.underlying T = some (.array n e)) (hi : (P.info? T).map (·.size) = some n) (hl : zs.length = n) (h : ArrAt w b T q zs) : (loadVar T ⟨b, 0, none⟩).run P w = .ok (arrV q zs) w :=
  run_loadVar_row _ _ T T _ (0, 0) _ h hu rfl (by rw [hi]; simp [hl])
theorem run_storeA (hi : (P.info? T).map (·.size) = some n) (hl : zs.length = n) (hy : ys.length = n) (h : ArrAt w b T q zs) : ∃ w', (storeVar T ⟨b, 0, none⟩ (arrV q ys)).run P w = .ok () w' ∧ ArrAt w' b T q ys ∧ w.grownBy w' (some b) := by
  refine ⟨_, run_storeVar_row _ _ T T _ _ h (by rw [hi]; simp [hy]) (by simp [hl, hy]) (ints_one ys), ?_, ?_⟩
  · exact setRow_heap w b _ _ T _ h
  · exact ⟨rfl, rfl, rfl, by simp, fun k _ hk => setRow_other w b k _ (fun e => hk (by rw [e]))⟩
theorem ArrAt.new (w : World) (T : TypeId) (q : IntKind) (zs : List Int) : ArrAt (w.alloc (.cells (zs.map (Value.int q)).toArray T)) w.heap.size T q zs := heap_alloc_new w _
end
section
variable {P : Program} (w : World) {ops : Array Oper} {rest : List Oper} {o : Oper} {a : Act} {Q : Exit → Act → World → Prop} {q : IntKind}
theorem wpList_loadA (hg : o.guard = none) (T : TypeId) (x : Operand) (hop : o.op = Op.load T x) (n e : Nat) (hu : P.underlying T = some (.array n e)) (hi : (P.info? T).map (·.size) = some n) (b : Nat) (zs : List Int) (hl : zs.length = n)
    (hx : a.eval x = .pointer (some ⟨b, 0, none⟩)) (h : ArrAt w b T q zs) (hK : wpList P ops Q rest (a.put o.dst (arrV q zs)) w) : wpList P ops Q (o :: rest) a w := by
  refine wpList_plain hg fun K' hK' => ?_
  unfold Oper.wp execOp
  simp only [hop, hx, Instr.loadAt, Instr.sureAddr, Sem.run_bind, Sem.run_pure, Result.andThen_ok, run_loadA hu hi hl h]
  exact hK' _ _ hK
theorem wpList_storeA (hg : o.guard = none) (T : TypeId) (x y : Operand) (hop : o.op = Op.store T x y) (n : Nat) (hi : (P.info? T).map (·.size) = some n) (b : Nat) (zs ys : List Int) (hl : zs.length = n) (hy : ys.length = n)
    (hx : a.eval x = .pointer (some ⟨b, 0, none⟩)) (hv : a.eval y = arrV q ys) (h : ArrAt w b T q zs) (hK : ∀ w', ArrAt w' b T q ys → w.grownBy w' (some b) → wpList P ops Q rest (a.put o.dst undef) w') : wpList P ops Q (o :: rest) a w := by
  refine wpList_plain hg fun K' hK' => ?_
  obtain ⟨w', hr, h1, h2⟩ := run_storeA (P := P) hi hl hy h
  unfold Oper.wp execOp
  simp only [hop, hx, hv, Instr.storeAt, Instr.sureAddr, Sem.run_bind, Sem.run_pure, Result.andThen_ok, hr]
  exact hK' _ _ (hK w' h1 h2)
theorem wpList_allocA (hg : o.guard = none) (T : TypeId) (hop : o.op = Op.alloc T) (zs : List Int) (hz : (zeroValue T).run P w = .ok (arrV q zs) w)
    (hK : ∀ w', ArrAt w' w.heap.size T q zs → w.grownBy w' none → wpList P ops Q rest (a.put o.dst (.pointer (some ⟨w.heap.size, 0, none⟩))) w') : wpList P ops Q (o :: rest) a w := by
  refine wpList_plain hg fun K' hK' => ?_
  have hr : (Instr.alloc T true (.tuple #[])).run P w = .ok (.pointer (some ⟨w.heap.size, 0, none⟩)) (w.alloc (.cells (zs.map (Value.int q)).toArray T)) := by
    simp [Instr.alloc, Sem.run_bind, hz, Result.andThen, newVar, newRow, arrV, Value.cells]
  unfold Oper.wp execOp
  simp only [hop, Sem.run_bind, Sem.run_pure, Result.andThen_ok, hr]
  exact hK' _ _ (hK _ (ArrAt.new w T q zs) (World.grownBy_alloc _ _ _))
theorem wpList_boxA (hg : o.guard = none) (T : TypeId) (x : Operand) (hop : o.op = Op.box T x) (zs : List Int) (hx : a.eval x = arrV q zs)
    (hK : ∀ w', ArrAt w' w.heap.size T q zs → w.grownBy w' none → wpList P ops Q rest (a.put o.dst (.pointer (some ⟨w.heap.size, 0, none⟩))) w') : wpList P ops Q (o :: rest) a w := by
  refine wpList_plain hg fun K' hK' => ?_
  have hr : (Instr.box T (arrV q zs)).run P w = .ok (.pointer (some ⟨w.heap.size, 0, none⟩)) (w.alloc (.cells (zs.map (Value.int q)).toArray T)) := by
    simp [Instr.box, Result.andThen, newVar, newRow, arrV, Value.cells]
  unfold Oper.wp execOp
  simp only [hop, hx, Sem.run_bind, Sem.run_pure, Result.andThen_ok, hr]
  exact hK' _ _ (hK _ (ArrAt.new w T q zs) (World.grownBy_alloc _ _ _))
end

theorem fold_set : ∀ (l : List Value) (k : Nat) (a : Array Value), k + l.length ≤ a.size → ((l.zipIdx k).foldl (fun (cs : Array Value) (p : Value × Nat) => cs.setIfInBounds (0 + p.2) p.1) a).toList = a.toList.take k ++ l ++ a.toList.drop (k + l.length)
  | [], k, a, _ => by simp
  | x :: r, k, a, h => by
    rw [List.length_cons] at h
    rw [List.zipIdx_cons, List.foldl_cons, fold_set r (k + 1) _ (by simp; omega)]
    have hk : k < a.toList.length := by simp; omega
    have e1 : (a.setIfInBounds (0 + k) x).toList = a.toList.set k x := by simp
    simp only [e1]
    have e2 : (a.toList.set k x).take (k + 1) = a.toList.take k ++ [x] := by
      rw [List.take_succ_eq_append_getElem (by rw [List.length_set]; exact hk), List.take_set, List.set_eq_of_length_le (by simp; omega), List.getElem_set_self]
    have e3 : (a.toList.set k x).drop (k + 1 + r.length) = a.toList.drop (k + (r.length + 1)) := by
      rw [List.drop_set_of_lt (by omega)]
      congr 1
      omega
    rw [e2, e3, List.length_cons]
    simp
/-- A slice of one array. -/
theorem run_oneA {P : Program} {TS T n : Nat} {q : IntKind} {zs : List Int} (w : World) (hs : P.underlying TS = some (.slice T)) (i : TypeInfo) (hi : P.info? T = some i) (hn : i.size = n) (hn0 : 0 < n) (hn1 : n ≤ 16777216) (z0 : Value) (hz : i.zero = some z0) (hz0 : z0.cells.size = n) (hl : zs.length = n) :
    (Instr.buildSlice TS 1 #[(0, arrV q zs)]).run P w = .ok (.slice (some ⟨w.heap.size, 0, none⟩) 1 1) (w.alloc (.cells (zs.map (Value.int q)).toArray T)) := by
  have hc : (arrV q zs).cells = (zs.map (Value.int q)).toArray := by simp [arrV, Value.cells]
  have hfold : ((zs.map (Value.int q)).toArray.zipIdx.foldl (fun (cs : Array Value) (p : Value × Nat) => cs.setIfInBounds (0 + p.2) p.1) ((Array.range n).map (fun x => z0.cells[x % z0.cells.size]!))) = (zs.map (Value.int q)).toArray := by
    apply Array.toList_inj.1
    rw [← Array.foldl_toList, Array.toList_zipIdx]
    have := fold_set (zs.map (Value.int q)) 0 ((Array.range n).map (fun x => z0.cells[x % z0.cells.size]!)) (by simp [hl])
    rw [this]
    simp [hl]
  have hfill : Instr.fill (fun j => some (j * n, n)) ((Array.range n).map (fun x => z0.cells[x % z0.cells.size]!)) [(0, arrV q zs)] = some (zs.map (Value.int q)).toArray := by
    unfold Instr.fill
    simp only [hc, Nat.zero_mul]
    rw [if_neg (by simp [hl])]
    unfold Instr.fill
    rw [hfold]
  have hlt : ¬ (n > 2 ^ 24) := by omega
  have hne : ¬ n = 0 := by omega
  simp [Instr.buildSlice, run_underlying hs, sizeOf, typeInfo, hi, hn, hlt, hne, zeroValue, hz, hfill, newRow]
theorem wpList_oneA {P : Program} (w : World) {ops : Array Oper} {rest : List Oper} {o : Oper} {a : Act} {Q : Exit → Act → World → Prop} {q : IntKind} (hg : o.guard = none) (TS T n : Nat) (x : Operand) (hop : o.op = Op.buildSlice TS 1 #[(0, x)]) (hs : P.underlying TS = some (.slice T)) (i : TypeInfo) (hi : P.info? T = some i) (hn : i.size = n) (hn0 : 0 < n) (hn1 : n ≤ 16777216) (z0 : Value) (hz : i.zero = some z0) (hz0 : z0.cells.size = n) (zs : List Int) (hl : zs.length = n) (hx : a.eval x = arrV q zs)
    (hK : ∀ w', w'.heap[w.heap.size]? = some (.cells (zs.map (Value.int q)).toArray T (0, 0)) → w.grownBy w' none → wpList P ops Q rest (a.put o.dst (.slice (some ⟨w.heap.size, 0, none⟩) 1 1)) w') : wpList P ops Q (o :: rest) a w := by
  refine wpList_plain hg fun K' hK' => ?_
  unfold Oper.wp execOp
  simp only [hop, List.map_toArray, List.map_cons, List.map_nil, hx, Sem.run_bind, Sem.run_pure, Result.andThen_ok, run_oneA w hs i hi hn hn0 hn1 z0 hz hz0 hl]
  exact hK' _ _ (hK _ (heap_alloc_new w _) (World.grownBy_alloc _ _ _))
end Go.Proofs.Ytcoiddmgcoeocaa.Tr
