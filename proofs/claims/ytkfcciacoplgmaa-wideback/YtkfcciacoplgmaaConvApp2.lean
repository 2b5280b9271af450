/- append onto []byte(s), its capacity told. -/
import Derived.Test.YtkfcciacoplgmaaConvApp
namespace Go.Proofs.Ytkfcciacoplgmaa.Mem
open Go.RowKit
set_option linter.unusedVariables false
theorem run_append_E2 {P : Program} (w : World) (t tx ty : TypeId) (i : TypeInfo) (ht : P.underlying t = some (.slice 5)) (hi : P.info? 5 = some i) (hz : i.zero = some (.int .u8 0)) (hsize : i.size = 1) (hby : i.bytes = 1)
    (g cap : Nat) (L : List UInt8) (h : OwnE w g cap L) (x : Value) (M : List UInt8) (hs : Src P 1 tx x M.length (bcells M) w) (hb : L.length + M.length ≤ 140737488355328) :
    ∃ ao' cap' w', (Builtin.append_ #[t, tx] ty #[.slice (some ⟨g, 0, none⟩) L.length cap, x]).run P w = .ok (.slice ao' (L ++ M).length cap') w' ∧ Bytes w' ao' (L ++ M) ∧ w.grownBy w' (some g) ∧ (L ++ M).length ≤ cap' ∧ cap' ≤ 9223372036854775807 := by
  have hmax : L.length + M.length ≤ maxLen := by simp only [maxLen]; omega
  have hsi : Src P i.size tx x M.length (bcells M) w := by rw [hsize]; exact hs
  obtain ⟨cur, fz, hg, hfz, hlc, hcm, hcs, htake⟩ := h
  by_cases hroom : L.length + M.length ≤ cap
  · have hst := run_storeCells_atE P g L.length 5 fz (bcells M) 0 cur w hg hfz (by simp [bcells_length]; omega) (bcells_one M)
    simp only [Nat.add_zero] at hst
    have hr : (Builtin.append_ #[t, tx] ty #[.slice (some ⟨g, 0, none⟩) L.length cap, x]).run P w = .ok (.slice (some ⟨g, 0, none⟩) (L.length + M.length) cap) (w.setRow g (cur.toList.take L.length ++ bcells M ++ cur.toList.drop (L.length + (bcells M).length)).toArray) := by
      rcases hs.kind with ⟨e', hk⟩ | hk <;> simp [Builtin.append_, run_underlying ht, run_underlying hk, sizeOf, typeInfo, hi, hs.len, hroom, hs.cells, Addr.add_lit, hsize, hst]
    have hE : OwnE (w.setRow g (cur.toList.take L.length ++ bcells M ++ cur.toList.drop (L.length + (bcells M).length)).toArray) g cap (L ++ M) := by
      have hsz : (cur.toList.take L.length ++ bcells M ++ cur.toList.drop (L.length + (bcells M).length)).toArray.size = cap := by
        simp only [List.size_toArray, List.length_append, List.length_take, List.length_drop, Array.length_toList, bcells_length]
        omega
      refine ⟨_, fz, setRow_heap w g cur _ 5 _ hg, by rw [hsz]; omega, by simpa using hroom, hcm, hsz, ?_⟩
      rw [htake, bcells_append]
      simp only []
      rw [List.take_append_of_le_length (by simp [bcells_length])]
      exact List.take_of_length_le (by simp [bcells_length])
    exact ⟨_, _, _, by rw [List.length_append]; exact hr, hE.bytes, ⟨rfl, rfl, rfl, by simp, fun k _ hk => setRow_other w g k _ (fun e => hk (by rw [e]))⟩, by rw [List.length_append]; exact hroom, by simpa [maxLen] using hcm⟩
  · have holds : (Builtin.firstCells i.size L.length (.slice (some ⟨g, 0, none⟩) L.length cap)).run P w.drew = .ok (bcells L).toArray w.drew := by
      refine run_firstCells_some w.drew i.size L.length ⟨g, 0, none⟩ L.length cap (bcells L) (by simp [bcells_length, hsize]) ?_
      intro j u hu
      obtain ⟨hj, rfl⟩ := bcells_get hu
      have hB := OwnE.bytes (w := w) (g := g) (cap := cap) (L := L) ⟨cur, fz, hg, hfz, hlc, hcm, hcs, htake⟩
      rcases hB with ⟨hB, _⟩ | ⟨a, hB, hc⟩
      · cases hB
      · cases hB
        exact hc j hj
    have hr := run_append_grow_src (P := P) w t tx ty 5 i (.int .u8 0) ht hi hz (some ⟨g, 0, none⟩) L.length cap (bcells L) holds x M.length (bcells M) hsi (by omega) (by omega)
      (growslice_fits (by omega) (by rw [hby]; simpa using hb))
    have hge := grownCap_ge w (L.length + M.length) cap 5
    refine ⟨some ⟨w.heap.size, 0, none⟩, grownCap w (L.length + M.length) cap 5, w.drew.alloc (.cells ((bcells L ++ bcells M).toArray ++ Builtin.zeroCells (Value.int .u8 0).cells (grownCap w (L.length + M.length) cap 5 - (L.length + M.length))) 5), by rw [List.length_append]; exact hr, ?_, ⟨rfl, rfl, rfl, by simp, fun k hk _ => Below.heap_alloc w.drew _ k hk⟩, by rw [List.length_append]; exact hge, by have hmx := grownCap_le_maxLen w (L.length + M.length) cap 5 hmax; simpa [maxLen] using hmx⟩
    refine .inr ⟨_, rfl, fun j hj => ?_⟩
    rw [addr_add, Nat.zero_add]
    have hn := heap_alloc_new w.drew (.cells ((bcells L ++ bcells M).toArray ++ Builtin.zeroCells (Value.int .u8 0).cells (grownCap w (L.length + M.length) cap 5 - (L.length + M.length))) 5)
    show World.cell? _ ⟨w.drew.heap.size, j, none⟩ = _
    simp only [World.cell?, hn]
    have e3 : ∀ Z : Array Value, ((bcells L ++ bcells M).toArray ++ Z)[j]? = some (.int .u8 ((L ++ M)[j].toNat : Int)) := by
      intro Z
      have hj' : j < (bcells L ++ bcells M).length := by simpa [bcells_length] using hj
      rw [Array.getElem?_append_left (by simpa using hj'), ← bcells_append]
      simp only [List.getElem?_toArray, bcells, List.getElem?_map, List.getElem?_eq_getElem hj, Option.map_some]
    exact e3 _


theorem wpList_append_E {P : Program} {ops : Array Oper} {rest : List Oper} {o : Oper} {a : Act} {w : World} {Q : Exit → Act → World → Prop} (hgd : o.guard = none) (s x : Operand) (t tx : TypeId)
    (ho : o.op = .call { callee := .builtin .append, args := #[s, x], argTypes := #[t, tx] })
    (i : TypeInfo) (ht : P.underlying t = some (.slice 5)) (hi : P.info? 5 = some i) (hz : i.zero = some (.int .u8 0)) (hsize : i.size = 1) (hby : i.bytes = 1)
    (g cap : Nat) (L : List UInt8) (hs : a.eval s = .slice (some ⟨g, 0, none⟩) L.length cap) (h : OwnE w g cap L) (xv : Value) (hx : a.eval x = xv) (M : List UInt8) (hsrc : Src P 1 tx xv M.length (bcells M) w) (hb : L.length + M.length ≤ 140737488355328)
    (hK : ∀ ao' cap' w', Bytes w' ao' (L ++ M) → w.grownBy w' (some g) → (L ++ M).length ≤ cap' → cap' ≤ 9223372036854775807 → wpList P ops Q rest (a.put o.dst (.slice ao' (L ++ M).length cap')) w') : wpList P ops Q (o :: rest) a w := by
  subst hx
  obtain ⟨ao', cap', w', hr, h2, h3, h4, h5⟩ := run_append_E2 (P := P) w t tx o.type i ht hi hz hsize hby g cap L h _ M hsrc hb
  refine wpList_plain hgd fun _ hk => ?_
  unfold Oper.wp execOp
  simp only [ho, resolve, invoke, builtin, Sem.run_bind, Sem.run_pure, Result.andThen_ok, List.map_toArray, List.map_cons, List.map_nil, hs, hr]
  exact hk _ _ (hK ao' cap' w' h2 h3 h4 h5)
end Go.Proofs.Ytkfcciacoplgmaa.Mem
