/- append onto []byte(s): a row whose frozen place lies behind its last cell. -/
import Derived.Test.YtljkncgbabiojaaDoorConv
import Derived.Laws.CopyRow
import Derived.Lib.FrozenHead
namespace Go.Proofs.YtljkncgbabiojaaDoor.Mem
open Go.RowKit
set_option linter.unusedVariables false

theorem run_storeCells_atE (P : Program) (g o : Nat) (t : TypeId) (fz : Nat × Nat) : ∀ (vs : List Value) (i : Nat) (cur : Array Value) (w : World), w.heap[g]? = some (.cells cur t fz) → cur.size ≤ fz.1 → o + i + vs.length ≤ cur.size → (∀ v ∈ vs, v.oneCell' = true) →
    (storeCells ⟨g, o, none⟩ vs i).run P w = .ok () (w.setRow g (cur.toList.take (o + i) ++ vs ++ cur.toList.drop (o + i + vs.length)).toArray)
  | [], i, cur, w, hg, _, _, _ => by
    simp only [storeCells, List.append_nil, List.length_nil, Nat.add_zero, List.take_append_drop, Array.toArray_toList]
    rw [setRow_self w g cur t fz hg]
    rfl
  | v :: rest, i, cur, w, hg, hfz, hl, h1 => by
    have hi : o + i < cur.size := by simp at hl; omega
    have hadd : (⟨g, o, none⟩ : Addr).add i = ⟨g, o + i, none⟩ := by unfold Addr.add; split <;> simp_all
    have hcell : w.cell? ⟨g, o + i, none⟩ = some cur[o + i] := by simp [World.cell?, hg, hi]
    have hfro : w.frozen? ⟨g, o + i, none⟩ = false := by
      obtain ⟨lo, hi'⟩ := fz
      simp only [World.frozen?, hg, Bool.and_eq_false_iff, decide_eq_false_iff_not]
      left
      simp only at hfz
      omega
    have hst : (store ((⟨g, o, none⟩ : Addr).add i) v).run P w = .ok () (w.setRow g (cur.setIfInBounds (o + i) v)) := by
      rw [hadd, run_store P w _ v _ (h1 v (by simp)), hcell]
      simp [hfro, setCell_eq_setRow w g (o + i) cur t fz v hg]
    have ih := run_storeCells_atE P g o t fz rest (i + 1) (cur.setIfInBounds (o + i) v) (w.setRow g (cur.setIfInBounds (o + i) v)) (setRow_heap w g cur _ t _ hg) (by simpa using hfz) (by simp at hl ⊢; omega) (fun x hx => h1 x (by simp [hx]))
    simp only [storeCells, Sem.run_bind, hst, Result.andThen_ok, ih, setRow_setRow]
    congr 3
    have e := list_seg_step cur.toList (o + i) v rest (by simp at hl ⊢; omega)
    simpa [Array.toList_setIfInBounds, Nat.add_assoc] using e

/-- A row whose frozen place lies behind its last cell. -/
def OwnE (w : World) (g cap : Nat) (L : List UInt8) : Prop :=
  ∃ cur fz, w.heap[g]? = some (.cells cur 5 fz) ∧ cur.size ≤ fz.1 ∧ L.length ≤ cap ∧ cap ≤ maxLen ∧ cur.size = cap ∧ cur.toList.take L.length = bcells L
theorem OwnE.bytes {w : World} {g cap : Nat} {L : List UInt8} (h : OwnE w g cap L) : Bytes w (some ⟨g, 0, none⟩) L := by
  obtain ⟨cur, fz, hh, _, hc, _, hs, ht⟩ := h
  refine .inr ⟨_, rfl, fun j hj => ?_⟩
  rw [addr_add, Nat.zero_add]
  have e : cur.toList[j]? = some (.int .u8 (L[j].toNat : Int)) := by
    have e1 : (cur.toList.take L.length)[j]? = cur.toList[j]? := by rw [List.getElem?_take, if_pos hj]
    rw [← e1, ht]
    simp [bcells, List.getElem?_eq_getElem hj]
  simpa [World.cell?, hh] using e
theorem conv_own {P : Program} (w : World) (src dst : TypeId) (s : ByteArray) (hs : P.underlying src = some .string) (hd : P.underlying dst = some (.slice 5)) (he : P.underlying 5 = some (.int .u8)) (hz : s.size ≤ 1000000) :
    ∃ c w', (convert src dst (.string s)).run P w = .ok (.slice (some ⟨w.heap.size, 0, none⟩) s.data.toList.length c) w' ∧ OwnE w' w.heap.size c s.data.toList ∧ w.grownBy w' none := by
  have hsz : s.data.toList.length = s.size := by rw [Array.length_toList]; rfl
  rw [hsz]
  refine ⟨_, _, run_bytes_of_string w src dst 5 s hs hd he, ?_, ⟨rfl, rfl, rfl, by simp, fun k hk _ => Below.heap_alloc w.drew _ k hk⟩⟩
  have hge := grownCap_ge w s.size 0 5
  refine ⟨bytesRow s (grownCap w s.size 0 5), _, heap_alloc_new w.drew _, Nat.le_refl _, by rw [hsz]; exact hge, grownCap_le_maxLen w s.size 0 5 (by simp [maxLen]; omega), ?_, ?_⟩
  · have : s.data.size = s.size := rfl
    simp [bytesRow, this]
    omega
  · simp only [bytesRow, Array.toList_append, Array.toList_map, bcells]
    rw [List.take_append_of_le_length (by simp)]
    exact List.take_of_length_le (by simp)

theorem run_append_EC {P : Program} (w : World) (t tx ty : TypeId) (i : TypeInfo) (ht : P.underlying t = some (.slice 5)) (hi : P.info? 5 = some i) (hz : i.zero = some (.int .u8 0)) (hsize : i.size = 1) (hby : i.bytes = 1)
    (g cap : Nat) (L : List UInt8) (h : OwnE w g cap L) (x : Value) (M : List UInt8) (hs : Src P 1 tx x M.length (bcells M) w) (hb : L.length + M.length ≤ 140737488355328) :
    ∃ ao' cap' w', (Builtin.append_ #[t, tx] ty #[.slice (some ⟨g, 0, none⟩) L.length cap, x]).run P w = .ok (.slice ao' (L ++ M).length cap') w' ∧ Bytes w' ao' (L ++ M) ∧ w.grownBy w' (some g) ∧ (L ++ M).length ≤ cap' ∧ cap' ≤ maxLen := by
  have hmax : L.length + M.length ≤ maxLen := by simp only [maxLen]; omega
  have hsi : Src P i.size tx x M.length (bcells M) w := by rw [hsize]; exact hs
  obtain ⟨cur, fz, hg, hfz, hlc, hcm, hcs, htake⟩ := h
  by_cases hroom : L.length + M.length ≤ cap
  · have hst := run_storeCells_atE P g L.length 5 fz (bcells M) 0 cur w hg hfz (by simp [bcells_length]; omega) (bcells_one M)
    simp only [Nat.add_zero] at hst
    have hr : (Builtin.append_ #[t, tx] ty #[.slice (some ⟨g, 0, none⟩) L.length cap, x]).run P w = .ok (.slice (some ⟨g, 0, none⟩) (L.length + M.length) cap) (w.setRow g (cur.toList.take L.length ++ bcells M ++ cur.toList.drop (L.length + (bcells M).length)).toArray) := by
      rcases hs.kind with ⟨e', hk⟩ | hk <;> simp [Builtin.append_, run_underlying ht, run_underlying hk, sizeOf, typeInfo, hi, hs.len, hroom, hs.cells, Addr.add_lit, hsize, hst]
    have hE : OwnE (w.setRow g (cur.toList.take L.length ++ bcells M ++ cur.toList.drop (L.length + (bcells M).length)).toArray) g cap (L ++ M) := by
      have hsz : (cur.toList.take L.length ++ bcells M ++ cur.toList.drop (L.length + (bcells M).length)).toArray.size = cap := by
        simp only [List.size_toArray, List.length_append, List.length_take, List.length_drop, Array.length_toList, bcells_length]
        omega
      refine ⟨_, fz, setRow_heap w g cur _ 5 _ hg, by rw [hsz]; omega, by simpa using hroom, hcm, hsz, ?_⟩
      rw [htake, bcells_append]
      simp only []
      rw [List.take_append_of_le_length (by simp [bcells_length])]
      exact List.take_of_length_le (by simp [bcells_length])
    exact ⟨_, _, _, by rw [List.length_append]; exact hr, hE.bytes, ⟨rfl, rfl, rfl, by simp, fun k _ hk => setRow_other w g k _ (fun e => hk (by rw [e]))⟩, by rw [List.length_append]; exact hroom, hcm⟩
  · have holds : (Builtin.firstCells i.size L.length (.slice (some ⟨g, 0, none⟩) L.length cap)).run P w.drew = .ok (bcells L).toArray w.drew := by
      refine run_firstCells_some w.drew i.size L.length ⟨g, 0, none⟩ L.length cap (bcells L) (by simp [bcells_length, hsize]) ?_
      intro j u hu
      obtain ⟨hj, rfl⟩ := bcells_get hu
      have hB := OwnE.bytes (w := w) (g := g) (cap := cap) (L := L) ⟨cur, fz, hg, hfz, hlc, hcm, hcs, htake⟩
      rcases hB with ⟨hB, _⟩ | ⟨a, hB, hc⟩
      · cases hB
      · cases hB
        exact hc j hj
    have hr := run_append_grow_src (P := P) w t tx ty 5 i (.int .u8 0) ht hi hz (some ⟨g, 0, none⟩) L.length cap (bcells L) holds x M.length (bcells M) hsi (by omega) (by omega)
      (growslice_fits (by omega) (by rw [hby]; simpa using hb))
    have hge := grownCap_ge w (L.length + M.length) cap 5
    refine ⟨some ⟨w.heap.size, 0, none⟩, grownCap w (L.length + M.length) cap 5, w.drew.alloc (.cells ((bcells L ++ bcells M).toArray ++ Builtin.zeroCells (Value.int .u8 0).cells (grownCap w (L.length + M.length) cap 5 - (L.length + M.length))) 5), by rw [List.length_append]; exact hr, ?_, ⟨rfl, rfl, rfl, by simp, fun k hk _ => Below.heap_alloc w.drew _ k hk⟩, by rw [List.length_append]; exact hge, grownCap_le_maxLen w _ cap 5 hmax⟩
    refine .inr ⟨_, rfl, fun j hj => ?_⟩
    rw [addr_add, Nat.zero_add]
    have hn := heap_alloc_new w.drew (.cells ((bcells L ++ bcells M).toArray ++ Builtin.zeroCells (Value.int .u8 0).cells (grownCap w (L.length + M.length) cap 5 - (L.length + M.length))) 5)
    show World.cell? _ ⟨w.drew.heap.size, j, none⟩ = _
    simp only [World.cell?, hn]
    have e3 : ∀ Z : Array Value, ((bcells L ++ bcells M).toArray ++ Z)[j]? = some (.int .u8 ((L ++ M)[j].toNat : Int)) := by
      intro Z
      have hj' : j < (bcells L ++ bcells M).length := by simpa [bcells_length] using hj
      rw [Array.getElem?_append_left (by simpa using hj'), ← bcells_append]
      simp only [List.getElem?_toArray, bcells, List.getElem?_map, List.getElem?_eq_getElem hj, Option.map_some]
    exact e3 _

theorem run_append_E {P : Program} (w : World) (t tx ty : TypeId) (i : TypeInfo) (ht : P.underlying t = some (.slice 5)) (hi : P.info? 5 = some i) (hz : i.zero = some (.int .u8 0)) (hsize : i.size = 1) (hby : i.bytes = 1)
    (g cap : Nat) (L : List UInt8) (h : OwnE w g cap L) (x : Value) (M : List UInt8) (hs : Src P 1 tx x M.length (bcells M) w) (hb : L.length + M.length ≤ 140737488355328) :
    ∃ ao' cap' w', (Builtin.append_ #[t, tx] ty #[.slice (some ⟨g, 0, none⟩) L.length cap, x]).run P w = .ok (.slice ao' (L ++ M).length cap') w' ∧ Bytes w' ao' (L ++ M) ∧ w.grownBy w' (some g) := by
  obtain ⟨a, c, w', h1, h2, h3, _, _⟩ := run_append_EC w t tx ty i ht hi hz hsize hby g cap L h x M hs hb
  exact ⟨a, c, w', h1, h2, h3⟩

/-- An operation of a drawn region that is wanted, by what it does. -/
theorem step_run {P : Program} {w w' : World} {ops : Array Oper} {o : Oper} {a : Act} {v : Value} {K : Act → World → Prop} {Q : Exit → Act → World → Prop} {E : Prop} (hw : Region.wanted o (yielded ops a.tmps) = true)
    (hr : (execOp a.eval o).run P w = .ok (.value v) w') (hK : K (a.put o.dst v) w') : if Region.wanted o (yielded ops a.tmps) = true then Oper.wp P o a w K Q else E := by
  rw [if_pos hw]
  unfold Oper.wp
  rw [hr]
  exact hK
theorem exec_convert {P : Program} {w w' : World} {o : Oper} {a : Act} {v u : Value} (x : Operand) (s d : TypeId) (ho : o.op = .convert s d x) (hx : a.eval x = u) (hr : (convert s d u).run P w = .ok v w') :
    (execOp a.eval o).run P w = .ok (.value v) w' := by
  unfold execOp
  simp only [ho, hx, Sem.run_bind, hr, Result.andThen_ok, Sem.run_pure]
theorem exec_min {P : Program} {w : World} {o : Oper} {a : Act} (s x : Operand) (t : TypeId) (ho : o.op = .call { callee := .builtin .min, args := #[s, x], argTypes := #[t, t] }) (k k' : IntKind) (y z v : Int) (hs : a.eval s = .int k y) (hx : a.eval x = .int k' z) (hv : (if z < y then z else y) = v) :
    (execOp a.eval o).run P w = .ok (.value (.int k v)) w := by
  unfold execOp
  simp only [ho, resolve, invoke, builtin, Sem.run_bind, Sem.run_pure, Result.andThen_ok, List.map_toArray, List.map_cons, List.map_nil, hs, hx, run_min_int2, hv]
theorem exec_append {P : Program} {w w' : World} {o : Oper} {a : Act} {v u y : Value} (s x : Operand) (t tx : TypeId) (ho : o.op = .call { callee := .builtin .append, args := #[s, x], argTypes := #[t, tx] }) (hs : a.eval s = u) (hx : a.eval x = y)
    (hr : (Builtin.append_ #[t, tx] o.type #[u, y]).run P w = .ok v w') : (execOp a.eval o).run P w = .ok (.value v) w' := by
  unfold execOp
  simp only [ho, resolve, invoke, builtin, Sem.run_bind, Sem.run_pure, Result.andThen_ok, List.map_toArray, List.map_cons, List.map_nil, hs, hx, hr]
end Go.Proofs.YtljkncgbabiojaaDoor.Mem
