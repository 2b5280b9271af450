/- Rows made of zero elements. -/
import Derived.Test.YtcoiddmgcoeocaaEnt
import Derived.Laws.MakeOwn
namespace Go.Proofs.Ytcoiddmgcoeocaa.Tr
open Go.RowKit Go.Proofs.Ytcoiddmgcoeocaa.Mem Go.Proofs.Ytcoiddmgcoeocaa.El
set_option linter.unusedVariables false

section
variable {α : Type} {E : Elem α}
theorem rep_cells (z : Array Value) (a0 : α) (hz : z.toList = E.enc a0) (hs : 0 < E.size) (n : Nat) : ((Array.range (n * E.size)).map (z[· % z.size]!)).toList = E.cells (List.replicate n a0) := by
  have hzs : z.size = E.size := by rw [← Array.length_toList, hz, E.len]
  apply List.ext_getElem?
  intro j
  by_cases hj : j < n * E.size
  · have hm : j % E.size < E.size := Nat.mod_lt _ hs
    have hd : j / E.size < n := Nat.div_lt_of_lt_mul (by rw [Nat.mul_comm]; exact hj)
    have e : j = j / E.size * E.size + j % E.size := by rw [Nat.mul_comm]; exact (Nat.div_add_mod j E.size).symm
    have h1 := cells_at E (List.replicate n a0) (j / E.size) (by simpa using hd) (j % E.size) hm
    rw [← e, List.getElem_replicate] at h1
    rw [h1, ← hz]
    simp only [Array.toList_map, List.getElem?_map, Array.getElem?_toList, Array.getElem?_range, hj, ↓reduceIte, Option.map_some, hzs]
    have hm2 : j % E.size < z.size := by rw [hzs]; exact hm
    rw [Array.getElem?_eq_getElem hm2, getElem!_pos z (j % E.size) hm2]
  · rw [List.getElem?_eq_none (by simp; omega), List.getElem?_eq_none (by rw [cells_length, List.length_replicate]; omega)]
theorem run_makeE {P : Program} (w : World) (t : TypeId) (i : TypeInfo) (z : Value) (by_ : Nat) (ht : P.underlying t = some (.slice E.ty)) (hi : P.info? E.ty = some i) (hz : i.zero = some z) (hsize : i.size = E.size) (hby : i.bytes = by_) (a0 : α) (hzc : z.cells.toList = E.enc a0) (hs : 0 < E.size) (n : Nat) (hn : by_ * n ≤ 281474976710656) (hm : n ≤ 9223372036854775807) :
    ∃ w', (Instr.makeSlice t (.int .i64 (n : Int)) (.int .i64 (n : Int))).run P w = .ok (.slice (some ⟨w.heap.size, 0, none⟩) n n) w' ∧ E.Own w' (some ⟨w.heap.size, 0, none⟩) n (List.replicate n a0) ∧ w.grownBy w' none := by
  have hb' : (i.bytes : Int) * (n : Int) ≤ 281474976710656 := by
    rw [hby]
    have h : ((by_ * n : Nat) : Int) ≤ 281474976710656 := by omega
    rwa [Int.natCast_mul] at h
  have hr := run_make (P := P) w t E.ty i z ht hi hz .i64 .i64 n n (by omega) (by omega) hb' (by omega)
  simp only [Int.toNat_natCast, hsize] at hr
  refine ⟨_, hr, .inr ⟨w.heap.size, _, rfl, heap_alloc_new w _, by simp, hm, size_madeCells _ _, ?_⟩, World.grownBy_alloc _ _ _⟩
  have e := rep_cells (E := E) z.cells a0 hzc hs n
  rw [List.length_replicate]
  show (madeCells z.cells (n * E.size)).toList.take (n * E.size) = _
  unfold madeCells
  rw [e]
  exact List.take_of_length_le (by rw [cells_length, List.length_replicate]; exact Nat.le_refl _)
/-- The rest of a row, cleared. -/
theorem run_clearE {P : Program} {w : World} (t ty : TypeId) (i : TypeInfo) (z : Value) (ht : P.underlying t = some (.slice E.ty)) (hi : P.info? E.ty = some i) (hz : i.zero = some z) (a0 : α) (hzc : z.cells.toList = E.enc a0) (hs : 0 < E.size) (g N : Nat) (D : List α) (h : E.Own w (some ⟨g, 0, none⟩) N D) (hD : D.length = N) (k : Nat) (hk : k < N) (c : Nat) :
    ∃ w', (Builtin.clear_ #[t] ty #[.slice (some ⟨g, k * E.size, none⟩) (N - k) c]).run P w = .ok (.tuple #[]) w' ∧ E.Own w' (some ⟨g, 0, none⟩) N (D.take k ++ List.replicate (N - k) a0) ∧ w.grownBy w' (some g) := by
  rcases h with ⟨h, _⟩ | ⟨g', cur, h, hg, hlc, hcm, hcs, htake⟩
  · cases h
  · cases h
    have hzs : z.cells.size = E.size := by rw [← Array.length_toList, hzc, E.len]
    have e := rep_cells (E := E) z.cells a0 hzc hs (N - k)
    have e2 : (Builtin.zeroCells z.cells (N - k)).toList = E.cells (List.replicate (N - k) a0) := by
      unfold Builtin.zeroCells
      rw [← e, hzs]
    have hl : (E.cells (List.replicate (N - k) a0)).length = (N - k) * E.size := by rw [cells_length, List.length_replicate]
    have hNk : k * E.size + (N - k) * E.size = N * E.size := by rw [← Nat.add_mul]; congr 1; omega
    have hst := run_storeCells_at P g (k * E.size) E.ty (E.cells (List.replicate (N - k) a0)) 0 cur w hg (by rw [hl, Nat.add_zero, hNk, hcs]; exact Nat.le_refl _) (cells_one E _)
    obtain ⟨j, hj⟩ : ∃ j, N - k = j + 1 := ⟨N - k - 1, by omega⟩
    refine ⟨w.setRow g (cur.toList.take (k * E.size + 0) ++ E.cells (List.replicate (N - k) a0) ++ cur.toList.drop (k * E.size + 0 + (E.cells (List.replicate (N - k) a0)).length)).toArray, ?_, .inr ⟨g, _, rfl, setRow_heap w g cur _ E.ty _ hg, by simp only [List.length_append, List.length_take, List.length_replicate]; omega, hcm, ?_, ?_⟩, ⟨rfl, rfl, rfl, by simp, fun q _ hq => setRow_other w g q _ (fun e => hq (by simp [e]))⟩⟩
    · have : (Builtin.clear_ #[t] ty #[.slice (some ⟨g, k * E.size, none⟩) (N - k) c]).run P w = ((storeCells ⟨g, k * E.size, none⟩ (Builtin.zeroCells z.cells (N - k)).toList).run P w).andThen fun _ w' => .ok (.tuple #[]) w' := by
        rw [hj]
        simp [Builtin.clear_, run_underlying ht, zeroValue, typeInfo, hi, hz]
      rw [this, e2, hst]
      rfl
    · simp only [List.size_toArray, List.length_append, List.length_take, List.length_drop, Array.length_toList, hl]
      omega
    · have ht2 : cur.toList.take (k * E.size) = E.cells (D.take k) := by
        have h1 : cur.toList.take (k * E.size) = (cur.toList.take (D.length * E.size)).take (k * E.size) := by
          rw [List.take_take, Nat.min_eq_left (Nat.mul_le_mul_right _ (by omega))]
        rw [h1, htake]
        have e3 : E.cells D = E.cells (D.take k) ++ E.cells (D.drop k) := by rw [← cells_append, List.take_append_drop]
        rw [e3, List.take_append_of_le_length (by rw [cells_length, List.length_take, Nat.min_eq_left (by omega)]; exact Nat.le_refl _)]
        exact List.take_of_length_le (by rw [cells_length, List.length_take, Nat.min_eq_left (by omega)]; exact Nat.le_refl _)
      simp only [Nat.add_zero]
      rw [ht2, cells_append, hl, hNk]
      have h5 : (D.take k ++ List.replicate (N - k) a0).length = N := by simp only [List.length_append, List.length_take, List.length_replicate]; omega
      rw [h5, List.take_append_of_le_length (by rw [List.length_append, cells_length, hl, List.length_take, Nat.min_eq_left (by omega)]; omega)]
      exact List.take_of_length_le (by rw [List.length_append, cells_length, hl, List.length_take, Nat.min_eq_left (by omega)]; omega)
end
theorem infoE : (Try.prog.info? 76).map (fun i => (i.zero, i.size, i.bytes)) = some (some (.agg #[.int .i64 0, .int .i32 0]), 2, 16) := by kernel_rfl
theorem zE : (Value.agg #[.int .i64 0, .int .i32 0]).cells.toList = EE.enc (0, 0) := by first | rfl | simp [Value.cells, EE]
theorem info_parts' {o : Option TypeInfo} {z : Option Value} {a b : Nat} (h : o.map (fun i => (i.zero, i.size, i.bytes)) = some (z, a, b)) : ∃ i, o = some i ∧ i.zero = z ∧ i.size = a ∧ i.bytes = b := by
  cases o with
  | none => simp at h
  | some i =>
    simp only [Option.map_some, Option.some.injEq, Prod.mk.injEq] at h
    exact ⟨i, rfl, h.1, h.2.1, h.2.2⟩
theorem make_ent (w : World) (n : Nat) (hn : n ≤ 70000) : ∃ w', (Instr.makeSlice 57 (.int .i64 (n : Int)) (.int .i64 (n : Int))).run Try.prog w = .ok (.slice (some ⟨w.heap.size, 0, none⟩) n n) w' ∧ EE.Own w' (some ⟨w.heap.size, 0, none⟩) n (List.replicate n (0, 0)) ∧ w.grownBy w' none := by
  obtain ⟨i0, hi, hz0, hz1, hz2⟩ := info_parts' infoE
  exact run_makeE (E := EE) w _ i0 _ 16 Try.underlying57 hi hz0 hz1 hz2 (0, 0) zE (by decide) n (by omega) (by omega)
theorem clear_ent {w : World} (ty g N : Nat) (D : List Pr) (h : EE.Own w (some ⟨g, 0, none⟩) N D) (hD : D.length = N) (k : Nat) (hk : k < N) (c : Nat) :
    ∃ w', (Builtin.clear_ #[57] ty #[.slice (some ⟨g, k * 2, none⟩) (N - k) c]).run Try.prog w = .ok (.tuple #[]) w' ∧ EE.Own w' (some ⟨g, 0, none⟩) N (D.take k ++ List.replicate (N - k) (0, 0)) ∧ w.grownBy w' (some g) := by
  obtain ⟨i0, hi, hz0, hz1, hz2⟩ := info_parts' infoE
  exact run_clearE (E := EE) _ ty i0 _ Try.underlying57 hi hz0 (0, 0) zE (by decide) g N D h hD k hk c
end Go.Proofs.Ytcoiddmgcoeocaa.Tr
