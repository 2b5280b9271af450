/- Runes in memory: rows that a call owns, and append onto them (as the text Mem for bytes). -/
import Derived.Test.YtjhdepbiakekaaaMem
namespace Go.Proofs.Ytjhdepbiakekaaa.MemR
set_option linter.unusedVariables false
open Go.RowKit
open Go.Proofs.Ytjhdepbiakekaaa.Mem (blk blk_none blk_some addr_add add_block add_add grownBy_setCell grownBy_refl grownBy_trans)

/-- Bytes as cells. -/
def bcells (L : List Int) : List Value := L.map fun c => Value.int .i32 c
theorem bcells_length (L : List Int) : (bcells L).length = L.length := by simp [bcells]
theorem bcells_append (L M : List Int) : bcells (L ++ M) = bcells L ++ bcells M := by simp [bcells]
theorem bcells_one (L : List Int) : ∀ u ∈ bcells L, u.oneCell' = true := by
  intro u hu
  obtain ⟨c, _, rfl⟩ := List.mem_map.1 hu
  rfl
theorem bcells_get {L : List Int} {j : Nat} {u : Value} (h : (bcells L)[j]? = some u) : ∃ hj : j < L.length, u = .int .i32 L[j] := by
  have hj : j < L.length := by
    have := (List.getElem?_eq_some_iff.1 h).1
    simpa [bcells] using this
  refine ⟨hj, ?_⟩
  simp [bcells, List.getElem?_eq_getElem hj] at h
  exact h.symm

/-- A slice's bytes lie in memory. -/
def Bytes (w : World) (ao : Option Addr) (L : List Int) : Prop :=
  (ao = none ∧ L = []) ∨ ∃ a, ao = some a ∧ ∀ j (hj : j < L.length), w.cell? (a.add j) = some (.int .i32 L[j])

/-- A slice of bytes at the head of a whole row that may be written. -/
def Own (w : World) (ao : Option Addr) (cap : Nat) (L : List Int) : Prop :=
  (ao = none ∧ cap = 0 ∧ L = []) ∨ ∃ g cur, ao = some ⟨g, 0, none⟩ ∧ w.heap[g]? = some (.cells cur 21 (0, 0)) ∧ L.length ≤ cap ∧ cap ≤ maxLen ∧ cur.size = cap ∧ cur.toList.take L.length = bcells L

theorem Own.cap_le {w : World} {ao : Option Addr} {cap : Nat} {L : List Int} (h : Own w ao cap L) : L.length ≤ cap := by
  rcases h with ⟨_, rfl, rfl⟩ | ⟨g, cur, _, _, h, _⟩
  · simp
  · exact h
theorem Own.cap_max {w : World} {ao : Option Addr} {cap : Nat} {L : List Int} (h : Own w ao cap L) : cap ≤ 9223372036854775807 := by
  rcases h with ⟨_, rfl, rfl⟩ | ⟨g, cur, _, _, _, h, _⟩
  · simp
  · simpa [maxLen] using h
theorem Own.lt {w : World} {ao : Option Addr} {cap : Nat} {L : List Int} (h : Own w ao cap L) {g : Nat} (hg : blk ao = some g) : g < w.heap.size := by
  rcases h with ⟨rfl, _, _⟩ | ⟨g', cur, rfl, hh, _⟩
  · simp [blk] at hg
  · simp [blk] at hg
    subst hg
    exact lt_of_block hh
theorem Own.form {w : World} {ao : Option Addr} {cap : Nat} {L : List Int} (h : Own w ao cap L) : ao = none ∨ ∃ g, ao = some ⟨g, 0, none⟩ ∧ g < w.heap.size ∧ ∃ cur, w.heap[g]? = some (.cells cur 21 (0, 0)) := by
  rcases h with ⟨rfl, _, _⟩ | ⟨g', cur, rfl, hh, _⟩
  · exact .inl rfl
  · exact .inr ⟨g', rfl, lt_of_block hh, cur, hh⟩

theorem Own.cell {w : World} {g cap : Nat} {L : List Int} (h : Own w (some ⟨g, 0, none⟩) cap L) (j : Nat) (hj : j < L.length) : w.cell? ⟨g, j, none⟩ = some (.int .i32 L[j]) := by
  rcases h with ⟨h, _⟩ | ⟨g', cur, h, hh, hc, _, hs, ht⟩
  · cases h
  · cases h
    have e : cur.toList[j]? = some (.int .i32 L[j]) := by
      have e1 : (cur.toList.take L.length)[j]? = cur.toList[j]? := by rw [List.getElem?_take, if_pos hj]
      rw [← e1, ht]
      simp [bcells, List.getElem?_eq_getElem hj]
    simpa [World.cell?, hh] using e
theorem Own.kept {w w' : World} {ao : Option Addr} {cap : Nat} {L : List Int} {row : Option Nat} (h : Own w ao cap L) (hg : w.grownBy w' row) (hne : blk ao = none ∨ blk ao ≠ row) : Own w' ao cap L := by
  rcases h with h | ⟨g, cur, rfl, hh, r⟩
  · exact .inl h
  · refine .inr ⟨g, cur, rfl, ?_, r⟩
    rw [hg.block g (lt_of_block hh) (by simpa [blk] using hne)]
    exact hh
theorem Own.kept0 {w w' : World} {ao : Option Addr} {cap : Nat} {L : List Int} (h : Own w ao cap L) (hg : w.grownBy w' none) : Own w' ao cap L :=
  h.kept hg (by cases hb : blk ao <;> simp)
theorem Own.alloc {w : World} {ao : Option Addr} {cap : Nat} {L : List Int} (h : Own w ao cap L) (o : Obj) : Own (w.alloc o) ao cap L := h.kept0 (World.grownBy_alloc w o none)
theorem Own.drew {w : World} {ao : Option Addr} {cap : Nat} {L : List Int} (h : Own w ao cap L) : Own w.drew ao cap L := h
theorem Own.bytes {w : World} {ao : Option Addr} {cap : Nat} {L : List Int} (h : Own w ao cap L) : Bytes w ao L := by
  rcases h with ⟨rfl, _, rfl⟩ | ⟨g, cur, rfl, r⟩
  · exact .inl ⟨rfl, rfl⟩
  · refine .inr ⟨_, rfl, fun j hj => ?_⟩
    rw [addr_add, Nat.zero_add]
    exact Own.cell (.inr ⟨g, cur, rfl, r⟩) j hj
theorem Bytes.kept {w w' : World} {ao : Option Addr} {L : List Int} {row : Option Nat} (h : Bytes w ao L) (hg : w.grownBy w' row) (hne : blk ao = none ∨ blk ao ≠ row) : Bytes w' ao L := by
  rcases h with h | ⟨a, rfl, hc⟩
  · exact .inl h
  · refine .inr ⟨a, rfl, fun j hj => ?_⟩
    have := hc j hj
    refine hg.cell this ?_
    rw [add_block]
    simpa [blk] using hne
theorem Bytes.kept0 {w w' : World} {ao : Option Addr} {L : List Int} (h : Bytes w ao L) (hg : w.grownBy w' none) : Bytes w' ao L :=
  h.kept hg (by cases hb : blk ao <;> simp)
theorem Bytes.drew {w : World} {ao : Option Addr} {L : List Int} (h : Bytes w ao L) : Bytes w.drew ao L := h
theorem Bytes.alloc {w : World} {ao : Option Addr} {L : List Int} (h : Bytes w ao L) (o : Obj) : Bytes (w.alloc o) ao L := h.kept0 (World.grownBy_alloc w o none)
theorem src_of {P : Program} {w : World} {ao : Option Addr} {M : List Int} (h : Bytes w ao M) (tx c : Nat) (hk : P.underlying tx = some (.slice 21)) : Src P 1 tx (.slice ao M.length c) M.length (bcells M) w := by
  rcases h with ⟨rfl, rfl⟩ | ⟨a, rfl, hc⟩
  · exact Src.ofNil w hk c
  · refine Src.ofSlice w hk a M.length c (bcells M) (by simp [bcells]) ?_ (bcells_one M)
    intro j u hu
    obtain ⟨hj, rfl⟩ := bcells_get hu
    exact hc j hj
section
variable {P : Program} (w : World)

/-- append of any bytes onto a row that the call owns. -/
theorem run_append_any (t tx ty : TypeId) (i : TypeInfo) (ht : P.underlying t = some (.slice 21)) (hi : P.info? 21 = some i) (hz : i.zero = some (.int .i32 0)) (hsize : i.size = 1) (hby : i.bytes = 4)
    (ao : Option Addr) (cap : Nat) (L : List Int) (h : Own w ao cap L) (x : Value) (M : List Int) (hs : Src P 1 tx x M.length (bcells M) w) (hb : L.length + M.length ≤ 1000000) :
    ∃ ao' cap' w', (Builtin.append_ #[t, tx] ty #[.slice ao L.length cap, x]).run P w = .ok (.slice ao' (L ++ M).length cap') w' ∧ Own w' ao' cap' (L ++ M) ∧ w.grownBy w' (blk ao) ∧
      (ao' = ao ∨ ao' = some ⟨w.heap.size, 0, none⟩) := by
  have hmax : L.length + M.length ≤ maxLen := by simp only [maxLen]; omega
  have hsi : Src P i.size tx x M.length (bcells M) w := by rw [hsize]; exact hs
  have grown : ∀ old, old < L.length + M.length → ∀ row, Own (w.drew.alloc (.cells ((bcells L ++ bcells M).toArray ++ Builtin.zeroCells (Value.int .i32 0).cells (grownCap w (L.length + M.length) old 21 - (L.length + M.length))) 21)) (some ⟨w.heap.size, 0, none⟩) (grownCap w (L.length + M.length) old 21) (L ++ M) ∧
      w.grownBy (w.drew.alloc (.cells ((bcells L ++ bcells M).toArray ++ Builtin.zeroCells (Value.int .i32 0).cells (grownCap w (L.length + M.length) old 21 - (L.length + M.length))) 21)) row := by
    intro old _ row
    have hge := grownCap_ge w (L.length + M.length) old 21
    have hcm : grownCap w (L.length + M.length) old 21 ≤ maxLen := grownCap_le_maxLen w _ old 21 hmax
    refine ⟨.inr ⟨w.heap.size, _, rfl, heap_alloc_new w.drew _, by simpa using hge, hcm, ?_, ?_⟩, ⟨rfl, rfl, rfl, by simp, fun k hk _ => Below.heap_alloc w.drew _ k hk⟩⟩
    · have e : (Value.int .i32 0).cells.size = 1 := rfl
      simp only [Array.size_append, List.size_toArray, size_zeroCells, e, List.length_append, bcells_length]
      omega
    · simp only [Array.toList_append]
      rw [bcells_append, List.take_append_of_le_length (by simp [bcells_length])]
      exact List.take_of_length_le (by simp [bcells_length])
  rcases h with ⟨rfl, rfl, rfl⟩ | ⟨g, cur, rfl, hg, hlc, hcm, hcs, htake⟩
  · by_cases hm : M = []
    · subst hm
      refine ⟨none, 0, w, ?_, .inl ⟨rfl, rfl, rfl⟩, grownBy_refl _ _, .inl rfl⟩
      have h1 := hs.len w
      have h2 := hsi.cells
      simp only [List.length_nil] at h1 h2
      rcases hs.kind with ⟨e', hk⟩ | hk <;> simp [Builtin.append_, run_underlying ht, run_underlying hk, sizeOf, typeInfo, hi, h1, h2, bcells]
    · have hp : 0 < M.length := List.length_pos_iff.2 hm
      have hr := run_append_grow_src (P := P) w t tx ty 21 i (.int .i32 0) ht hi hz none 0 0 [] (run_firstCells_none _ _ _ _ _) x M.length (bcells M) hsi (by omega) (by simp only [List.length_nil, Nat.zero_add] at hb; omega)
        (growslice_fits (by omega) (by rw [hby]; first | omega | (simp at hb ⊢; omega)))
      have hgr := grown 0 (by simp; omega) (blk none)
      simp only [List.length_nil, Nat.zero_add, List.nil_append] at hr hgr ⊢
      have e0 : bcells [] = [] := rfl
      simp only [e0, List.nil_append] at hgr
      exact ⟨_, _, _, hr, hgr.1, hgr.2, .inr rfl⟩
  · by_cases hroom : L.length + M.length ≤ cap
    · have hst := run_storeCells_at P g L.length 21 (bcells M) 0 cur w hg (by simp [bcells_length]; omega) (bcells_one M)
      simp only [Nat.add_zero] at hst
      have hr : (Builtin.append_ #[t, tx] ty #[.slice (some ⟨g, 0, none⟩) L.length cap, x]).run P w = .ok (.slice (some ⟨g, 0, none⟩) (L.length + M.length) cap) (w.setRow g (cur.toList.take L.length ++ bcells M ++ cur.toList.drop (L.length + (bcells M).length)).toArray) := by
        rcases hs.kind with ⟨e', hk⟩ | hk <;> simp [Builtin.append_, run_underlying ht, run_underlying hk, sizeOf, typeInfo, hi, hs.len, hroom, hs.cells, Addr.add_lit, hsize, hst]
      refine ⟨_, _, _, by rw [List.length_append]; exact hr, .inr ⟨g, _, rfl, setRow_heap w g cur _ 21 _ hg, by simpa using hroom, hcm, ?_, ?_⟩, ⟨rfl, rfl, rfl, by simp, fun k _ hk => setRow_other w g k _ (fun e => hk (by simp [blk, e]))⟩, .inl rfl⟩
      · simp only [List.size_toArray, List.length_append, List.length_take, List.length_drop, Array.length_toList, bcells_length]
        omega
      · rw [htake, bcells_append]
        simp only []
        rw [List.take_append_of_le_length (by simp [bcells_length])]
        exact List.take_of_length_le (by simp [bcells_length])
    · have holds : (Builtin.firstCells i.size L.length (.slice (some ⟨g, 0, none⟩) L.length cap)).run P w.drew = .ok (bcells L).toArray w.drew := by
        refine run_firstCells_some w.drew i.size L.length ⟨g, 0, none⟩ L.length cap (bcells L) (by simp [bcells_length, hsize]) ?_
        intro j u hu
        obtain ⟨hj, rfl⟩ := bcells_get hu
        rw [addr_add, Nat.zero_add]
        exact Own.cell (w := w) (cap := cap) (.inr ⟨g, cur, rfl, hg, hlc, hcm, hcs, htake⟩) j hj
      have hr := run_append_grow_src (P := P) w t tx ty 21 i (.int .i32 0) ht hi hz (some ⟨g, 0, none⟩) L.length cap (bcells L) holds x M.length (bcells M) hsi (by omega) (by omega)
        (growslice_fits (by omega) (by rw [hby]; first | omega | (simp at hb ⊢; omega)))
      have hgr := grown cap (by omega) (blk (some ⟨g, 0, none⟩))
      exact ⟨_, _, _, by rw [List.length_append]; exact hr, hgr.1, hgr.2, .inr rfl⟩

theorem wp_append_any {o : Oper} {a : Act} {K : Act → World → Prop} {Q : Exit → Act → World → Prop} (s x : Operand) (t tx : TypeId)
    (ho : o.op = .call { callee := .builtin .append, args := #[s, x], argTypes := #[t, tx] })
    (i : TypeInfo) (ht : P.underlying t = some (.slice 21)) (hi : P.info? 21 = some i) (hz : i.zero = some (.int .i32 0)) (hsize : i.size = 1) (hby : i.bytes = 4)
    (ao : Option Addr) (cap : Nat) (L : List Int) (hs : a.eval s = .slice ao L.length cap) (h : Own w ao cap L) (xv : Value) (hx : a.eval x = xv) (M : List Int) (hsrc : Src P 1 tx xv M.length (bcells M) w) (hb : L.length + M.length ≤ 1000000)
    (R : List Int) (hR : L ++ M = R)
    (hK : ∀ ao' cap' w', Own w' ao' cap' R → w.grownBy w' (blk ao) → (ao' = ao ∨ ao' = some ⟨w.heap.size, 0, none⟩) → K (a.put o.dst (.slice ao' R.length cap')) w') : o.wp P a w K Q := by
  subst hR
  subst hx
  obtain ⟨ao', cap', w', hr, h2, h3, h4⟩ := run_append_any (P := P) w t tx o.type i ht hi hz hsize hby ao cap L h _ M hsrc hb
  unfold Oper.wp execOp
  simp only [ho, resolve, invoke, builtin, Sem.run_bind, Sem.run_pure, Result.andThen_ok, List.map_toArray, List.map_cons, List.map_nil, hs, hr]
  exact hK ao' cap' w' h2 h3 h4

theorem wpList_append_any {ops : Array Oper} {rest : List Oper} {o : Oper} {a : Act} {Q : Exit → Act → World → Prop} (hgd : o.guard = none) (s x : Operand) (t tx : TypeId)
    (ho : o.op = .call { callee := .builtin .append, args := #[s, x], argTypes := #[t, tx] })
    (i : TypeInfo) (ht : P.underlying t = some (.slice 21)) (hi : P.info? 21 = some i) (hz : i.zero = some (.int .i32 0)) (hsize : i.size = 1) (hby : i.bytes = 4)
    (ao : Option Addr) (cap : Nat) (L : List Int) (hs : a.eval s = .slice ao L.length cap) (h : Own w ao cap L) (xv : Value) (hx : a.eval x = xv) (M : List Int) (hsrc : Src P 1 tx xv M.length (bcells M) w) (hb : L.length + M.length ≤ 1000000)
    (R : List Int) (hR : L ++ M = R)
    (hK : ∀ ao' cap' w', Own w' ao' cap' R → w.grownBy w' (blk ao) → (ao' = ao ∨ ao' = some ⟨w.heap.size, 0, none⟩) → wpList P ops Q rest (a.put o.dst (.slice ao' R.length cap')) w') : wpList P ops Q (o :: rest) a w :=
  wpList_plain hgd fun _ hk => wp_append_any w s x t tx ho i ht hi hz hsize hby ao cap L hs h xv hx M hsrc hb R hR fun ao' cap' w' h2 h3 h4 => hk _ _ (hK ao' cap' w' h2 h3 h4)

end
end Go.Proofs.Ytjhdepbiakekaaa.MemR
