/- Rows of structs in memory: what a call reads, rows that a call owns, and append onto them. -/
import Derived.Test.YtljkncgbabiojaaDoorBlk
namespace Go.Proofs.YtljkncgbabiojaaDoor.El
open Go.RowKit Go.Proofs.YtljkncgbabiojaaDoor.Mem
set_option linter.unusedVariables false

/-- How an element lies in memory. -/
structure Elem (α : Type) where
  ty : TypeId
  size : Nat
  enc : α → List Value
  len : ∀ a, (enc a).length = size
  one : ∀ a, ∀ u ∈ enc a, u.oneCell' = true

section
variable {α : Type} (E : Elem α)

def Elem.cells (L : List α) : List Value := L.flatMap E.enc
theorem cells_nil : E.cells [] = [] := rfl
theorem cells_cons (a : α) (L : List α) : E.cells (a :: L) = E.enc a ++ E.cells L := by simp [Elem.cells]
theorem cells_append (L M : List α) : E.cells (L ++ M) = E.cells L ++ E.cells M := by simp [Elem.cells]
theorem cells_length (L : List α) : (E.cells L).length = L.length * E.size := by
  induction L with
  | nil => simp [cells_nil]
  | cons a L ih => rw [cells_cons, List.length_append, ih, E.len, List.length_cons, Nat.succ_mul, Nat.add_comm]
theorem cells_one (L : List α) : ∀ u ∈ E.cells L, u.oneCell' = true := by
  intro u hu
  obtain ⟨a, _, h⟩ := List.mem_flatMap.1 hu
  exact E.one a u h
theorem cells_at (L : List α) : ∀ (i : Nat) (hi : i < L.length) (j : Nat), j < E.size → (E.cells L)[i * E.size + j]? = (E.enc L[i])[j]? := by
  induction L with
  | nil => intro i hi; simp at hi
  | cons a L ih =>
    intro i hi j hj
    rw [cells_cons]
    match i with
    | 0 => rw [Nat.zero_mul, Nat.zero_add, List.getElem?_append_left (by rw [E.len]; exact hj)]; rfl
    | i + 1 =>
      have e : (i + 1) * E.size + j = E.size + (i * E.size + j) := by rw [Nat.succ_mul]; omega
      rw [e, List.getElem?_append_right (by rw [E.len]; omega), E.len, Nat.add_sub_cancel_left]
      exact ih i (by simpa using hi) j hj

/-- A slice's elements lie in memory. -/
def Elem.Rd (w : World) (ao : Option Addr) (L : List α) : Prop :=
  (ao = none ∧ L = []) ∨ ∃ a, ao = some a ∧ ∀ j u, (E.cells L)[j]? = some u → w.cell? (a.add j) = some u

/-- A slice at the head of a whole row that may be written. -/
def Elem.Own (w : World) (ao : Option Addr) (cap : Nat) (L : List α) : Prop :=
  (ao = none ∧ cap = 0 ∧ L = []) ∨ ∃ g cur, ao = some ⟨g, 0, none⟩ ∧ w.heap[g]? = some (.cells cur E.ty (0, 0)) ∧ L.length ≤ cap ∧ cap ≤ maxLen ∧ cur.size = cap * E.size ∧ cur.toList.take (L.length * E.size) = E.cells L
end

section
variable {α : Type} {E : Elem α}
theorem Elem.Rd.at {w : World} {ao : Option Addr} {L : List α} (h : E.Rd w ao L) (hp : L ≠ []) (hs : 0 < E.size) :
    ∃ b o, ao = some ⟨b, o, none⟩ ∧ b < w.heap.size ∧ ∀ i (hi : i < L.length) j u, (E.enc L[i])[j]? = some u → w.cell? ⟨b, o + (i * E.size + j), none⟩ = some u := by
  rcases h with ⟨_, h⟩ | ⟨a, rfl, hc⟩
  · exact absurd h hp
  · obtain ⟨b, o, s⟩ := a
    have hlen : 0 < L.length := List.length_pos_iff.2 hp
    have hl2 : 0 < (E.cells L).length := by rw [cells_length]; exact Nat.mul_pos hlen hs
    have h0 := hc 0 _ (List.getElem?_eq_getElem hl2)
    have hs' : s = none := by simpa [Addr.add] using World.cell?_spot h0
    subst hs'
    refine ⟨b, o, rfl, World.block_lt_of_cell? w _ h0, fun i hi j u hu => ?_⟩
    have hj : j < E.size := by
      have := (List.getElem?_eq_some_iff.1 hu).1
      rwa [E.len] at this
    have := hc (i * E.size + j) u (by rw [cells_at E L i hi j hj]; exact hu)
    rwa [addr_add] at this
theorem Elem.Own.cap_le {w : World} {ao : Option Addr} {cap : Nat} {L : List α} (h : E.Own w ao cap L) : L.length ≤ cap := by
  rcases h with ⟨_, rfl, rfl⟩ | ⟨g, cur, _, _, h, _⟩
  · simp
  · exact h
theorem Elem.Own.cap_max {w : World} {ao : Option Addr} {cap : Nat} {L : List α} (h : E.Own w ao cap L) : cap ≤ 9223372036854775807 := by
  rcases h with ⟨_, rfl, rfl⟩ | ⟨g, cur, _, _, _, h, _⟩
  · simp
  · simpa [maxLen] using h
theorem Elem.Own.lt {w : World} {ao : Option Addr} {cap : Nat} {L : List α} (h : E.Own w ao cap L) {g : Nat} (hg : blk ao = some g) : g < w.heap.size := by
  rcases h with ⟨rfl, _, _⟩ | ⟨g', cur, rfl, hh, _⟩
  · simp [blk] at hg
  · simp [blk] at hg
    subst hg
    exact lt_of_block hh
theorem Elem.Own.cells {w : World} {g cap : Nat} {L : List α} (h : E.Own w (some ⟨g, 0, none⟩) cap L) (j : Nat) (u : Value) (hu : (E.cells L)[j]? = some u) : w.cell? ⟨g, j, none⟩ = some u := by
  rcases h with ⟨h, _⟩ | ⟨g', cur, h, hh, hc, _, hs, ht⟩
  · cases h
  · cases h
    have hj : j < L.length * E.size := by
      have := (List.getElem?_eq_some_iff.1 hu).1
      rwa [cells_length] at this
    have e : cur.toList[j]? = some u := by
      have e1 : (cur.toList.take (L.length * E.size))[j]? = cur.toList[j]? := by rw [List.getElem?_take, if_pos hj]
      rw [← e1, ht, hu]
    simpa [World.cell?, hh] using e
theorem Elem.Own.rd {w : World} {ao : Option Addr} {cap : Nat} {L : List α} (h : E.Own w ao cap L) : E.Rd w ao L := by
  rcases h with ⟨rfl, _, rfl⟩ | ⟨g, cur, rfl, r⟩
  · exact .inl ⟨rfl, rfl⟩
  · refine .inr ⟨_, rfl, fun j u hu => ?_⟩
    rw [addr_add, Nat.zero_add]
    exact Elem.Own.cells (.inr ⟨g, cur, rfl, r⟩) j u hu
theorem Elem.Own.at {w : World} {ao : Option Addr} {cap : Nat} {L : List α} (h : E.Own w ao cap L) (hp : L ≠ []) :
    ∃ g, ao = some ⟨g, 0, none⟩ ∧ g < w.heap.size ∧ (∀ j, w.frozen? ⟨g, j, none⟩ = false) ∧ ∀ i (hi : i < L.length) j u, (E.enc L[i])[j]? = some u → w.cell? ⟨g, i * E.size + j, none⟩ = some u := by
  rcases h with ⟨_, _, h⟩ | ⟨g, cur, rfl, hh, r⟩
  · exact absurd h hp
  · refine ⟨g, rfl, lt_of_block hh, fun j => by simp [World.frozen?, hh], fun i hi j u hu => ?_⟩
    have hj : j < E.size := by
      have := (List.getElem?_eq_some_iff.1 hu).1
      rwa [E.len] at this
    exact Elem.Own.cells (.inr ⟨g, cur, rfl, hh, r⟩) _ u (by rw [cells_at E L i hi j hj]; exact hu)
/-- One cell of an element is written. -/
theorem Elem.Own.set {w : World} {g cap : Nat} {L : List α} (h : E.Own w (some ⟨g, 0, none⟩) cap L) (i : Nat) (hi : i < L.length) (j : Nat) (hj : j < E.size) (v : Value) (a : α) (ha : (E.enc L[i]).set j v = E.enc a) :
    E.Own (w.setCell ⟨g, i * E.size + j, none⟩ v) (some ⟨g, 0, none⟩) cap (L.set i a) := by
  rcases h with ⟨h, _⟩ | ⟨g', cur, h, hh, hc, hm, hs, ht⟩
  · cases h
  · cases h
    refine .inr ⟨g, cur.setIfInBounds (i * E.size + j) v, rfl, block_set hh _ _, by simpa using hc, hm, by simpa using hs, ?_⟩
    simp only [Array.toList_setIfInBounds, List.length_set]
    rw [List.take_set, ht]
    clear ht hs hh hc
    induction L generalizing i with
    | nil => simp at hi
    | cons x L ih =>
      match i with
      | 0 =>
        rw [Nat.zero_mul, Nat.zero_add, List.set_cons_zero, cells_cons, cells_cons, List.set_append_left _ _ (by rw [E.len]; exact hj)]
        exact congrArg (· ++ _) ha
      | i + 1 =>
        have e : (i + 1) * E.size + j = E.size + (i * E.size + j) := by rw [Nat.succ_mul]; omega
        rw [e, List.set_cons_succ, cells_cons, cells_cons, List.set_append_right _ _ (by rw [E.len]; omega), E.len, Nat.add_sub_cancel_left]
        exact congrArg (_ ++ ·) (ih i (by simpa using hi) ha)
theorem Elem.Own.kept {w w' : World} {ao : Option Addr} {cap : Nat} {L : List α} {row : Option Nat} (h : E.Own w ao cap L) (hg : w.grownBy w' row) (hne : blk ao = none ∨ blk ao ≠ row) : E.Own w' ao cap L := by
  rcases h with h | ⟨g, cur, rfl, hh, r⟩
  · exact .inl h
  · refine .inr ⟨g, cur, rfl, ?_, r⟩
    rw [hg.block g (lt_of_block hh) (by simpa [blk] using hne)]
    exact hh
theorem Elem.Own.kept0 {w w' : World} {ao : Option Addr} {cap : Nat} {L : List α} (h : E.Own w ao cap L) (hg : w.grownBy w' none) : E.Own w' ao cap L :=
  h.kept hg (by cases hb : blk ao <;> simp)
theorem Elem.Own.alloc {w : World} {ao : Option Addr} {cap : Nat} {L : List α} (h : E.Own w ao cap L) (o : Obj) : E.Own (w.alloc o) ao cap L := h.kept0 (World.grownBy_alloc w o none)
theorem Elem.Rd.kept {w w' : World} {ao : Option Addr} {L : List α} {row : Option Nat} (h : E.Rd w ao L) (hg : w.grownBy w' row) (hne : blk ao = none ∨ blk ao ≠ row) : E.Rd w' ao L := by
  rcases h with h | ⟨a, rfl, hc⟩
  · exact .inl h
  · refine .inr ⟨a, rfl, fun j u hu => ?_⟩
    have := hc j u hu
    refine hg.cell this ?_
    rw [add_block]
    simpa [blk] using hne
theorem Elem.Rd.kept0 {w w' : World} {ao : Option Addr} {L : List α} (h : E.Rd w ao L) (hg : w.grownBy w' none) : E.Rd w' ao L :=
  h.kept hg (by cases hb : blk ao <;> simp)
theorem Elem.Rd.alloc {w : World} {ao : Option Addr} {L : List α} (h : E.Rd w ao L) (o : Obj) : E.Rd (w.alloc o) ao L := h.kept0 (World.grownBy_alloc w o none)
theorem Elem.Rd.nil (w : World) (ao : Option Addr) : E.Rd w ao [] := by
  cases ao with
  | none => exact .inl ⟨rfl, rfl⟩
  | some a => exact .inr ⟨a, rfl, fun j u hu => by simp [cells_nil] at hu⟩
/-- A row that the walk has just made. -/
theorem rd_new (w : World) (cs : Array Value) (t : TypeId) (L : List α) (h : cs.toList = E.cells L) : E.Rd (w.alloc (.cells cs t)) (some ⟨w.heap.size, 0, none⟩) L := by
  refine .inr ⟨_, rfl, fun j u hu => ?_⟩
  rw [addr_add, Nat.zero_add]
  refine cell_at (heap_alloc_new w _) j ?_
  rw [← Array.getElem?_toList, h, hu]
theorem own_made (w : World) : E.Own (w.alloc (.cells #[] E.ty)) (some ⟨w.heap.size, 0, none⟩) 0 [] :=
  .inr ⟨w.heap.size, #[], rfl, heap_alloc_new w _, by simp, by simp [maxLen], by simp, by simp [cells_nil]⟩
theorem src_of {P : Program} {w : World} {ao : Option Addr} {M : List α} (h : E.Rd w ao M) (tx c : Nat) (hk : P.underlying tx = some (.slice E.ty)) : Src P E.size tx (.slice ao M.length c) M.length (E.cells M) w := by
  rcases h with ⟨rfl, rfl⟩ | ⟨a, rfl, hc⟩
  · exact Src.ofNil w hk c
  · exact Src.ofSlice w hk a M.length c (E.cells M) (cells_length E M) hc (cells_one E M)
end

section
variable {α : Type} {E : Elem α} {P : Program} (w : World)

/-- append of elements onto a row that the call owns. -/
theorem run_append_any (t tx ty : TypeId) (i : TypeInfo) (z : Value) (by_ : Nat) (ht : P.underlying t = some (.slice E.ty)) (hi : P.info? E.ty = some i) (hz : i.zero = some z) (hsize : i.size = E.size) (hby : i.bytes = by_) (hzc : z.cells.size = E.size)
    (ao : Option Addr) (cap : Nat) (L : List α) (h : E.Own w ao cap L) (x : Value) (M : List α) (hs : Src P E.size tx x M.length (E.cells M) w) (hb : (L.length + M.length) * by_ ≤ 140737488355328) (hmax : L.length + M.length ≤ maxLen) :
    ∃ ao' cap' w', (Builtin.append_ #[t, tx] ty #[.slice ao L.length cap, x]).run P w = .ok (.slice ao' (L ++ M).length cap') w' ∧ E.Own w' ao' cap' (L ++ M) ∧ w.grownBy w' (blk ao) ∧
      (ao' = ao ∨ ao' = some ⟨w.heap.size, 0, none⟩) := by
  have h63 : ((L.length + M.length : Nat) : Int) ≤ 9223372036854775807 := by simp only [maxLen] at hmax; omega
  have hsi : Src P i.size tx x M.length (E.cells M) w := by rw [hsize]; exact hs
  have grown : ∀ old, old < L.length + M.length → ∀ row, E.Own (w.drew.alloc (.cells ((E.cells L ++ E.cells M).toArray ++ Builtin.zeroCells z.cells (grownCap w (L.length + M.length) old E.ty - (L.length + M.length))) E.ty)) (some ⟨w.heap.size, 0, none⟩) (grownCap w (L.length + M.length) old E.ty) (L ++ M) ∧
      w.grownBy (w.drew.alloc (.cells ((E.cells L ++ E.cells M).toArray ++ Builtin.zeroCells z.cells (grownCap w (L.length + M.length) old E.ty - (L.length + M.length))) E.ty)) row := by
    intro old _ row
    have hge := grownCap_ge w (L.length + M.length) old E.ty
    have hcm : grownCap w (L.length + M.length) old E.ty ≤ maxLen := grownCap_le_maxLen w _ old E.ty hmax
    refine ⟨.inr ⟨w.heap.size, _, rfl, heap_alloc_new w.drew _, by simpa using hge, hcm, ?_, ?_⟩, ⟨rfl, rfl, rfl, by simp, fun k hk _ => Below.heap_alloc w.drew _ k hk⟩⟩
    · simp only [Array.size_append, List.size_toArray, size_zeroCells, hzc, List.length_append, cells_length]
      rw [← Nat.add_mul, ← Nat.add_mul]
      congr 1
      omega
    · simp only [Array.toList_append]
      rw [cells_append, List.take_append_of_le_length (by simp [cells_length, Nat.add_mul])]
      exact List.take_of_length_le (by simp [cells_length, Nat.add_mul])
  rcases h with ⟨rfl, rfl, rfl⟩ | ⟨g, cur, rfl, hg, hlc, hcm, hcs, htake⟩
  · by_cases hm : M = []
    · subst hm
      refine ⟨none, 0, w, ?_, .inl ⟨rfl, rfl, rfl⟩, grownBy_refl _ _, .inl rfl⟩
      have h1 := hs.len w
      have h2 := hsi.cells
      simp only [List.length_nil] at h1 h2
      rcases hs.kind with ⟨e', hk⟩ | hk <;> simp [Builtin.append_, run_underlying ht, run_underlying hk, sizeOf, typeInfo, hi, h1, h2, cells_nil]
    · have hp : 0 < M.length := List.length_pos_iff.2 hm
      have hr := run_append_grow_src (P := P) w t tx ty E.ty i z ht hi hz none 0 0 [] (run_firstCells_none _ _ _ _ _) x M.length (E.cells M) hsi (by omega) (by simpa using h63)
        (growslice_fits (by omega) (by rw [hby]; simpa using hb))
      have hgr := grown 0 (by simp; omega) (blk none)
      simp only [List.length_nil, Nat.zero_add, List.nil_append] at hr hgr ⊢
      simp only [cells_nil, List.nil_append] at hgr
      exact ⟨_, _, _, hr, hgr.1, hgr.2, .inr rfl⟩
  · by_cases hroom : L.length + M.length ≤ cap
    · have hfit : L.length * E.size + M.length * E.size ≤ cur.size := by rw [hcs, ← Nat.add_mul]; exact Nat.mul_le_mul_right _ hroom
      have hst := run_storeCells_at P g (L.length * E.size) E.ty (E.cells M) 0 cur w hg (by simp [cells_length]; omega) (cells_one E M)
      simp only [Nat.add_zero] at hst
      have hr : (Builtin.append_ #[t, tx] ty #[.slice (some ⟨g, 0, none⟩) L.length cap, x]).run P w = .ok (.slice (some ⟨g, 0, none⟩) (L.length + M.length) cap) (w.setRow g (cur.toList.take (L.length * E.size) ++ E.cells M ++ cur.toList.drop (L.length * E.size + (E.cells M).length)).toArray) := by
        rcases hs.kind with ⟨e', hk⟩ | hk <;> simp [Builtin.append_, run_underlying ht, run_underlying hk, sizeOf, typeInfo, hi, hs.len, hroom, hs.cells, Addr.add_lit, hsize, hst]
      refine ⟨_, _, _, by rw [List.length_append]; exact hr, .inr ⟨g, _, rfl, setRow_heap w g cur _ E.ty _ hg, by simpa using hroom, hcm, ?_, ?_⟩, ⟨rfl, rfl, rfl, by simp, fun k _ hk => setRow_other w g k _ (fun e => hk (by simp [blk, e]))⟩, .inl rfl⟩
      · simp only [List.size_toArray, List.length_append, List.length_take, List.length_drop, Array.length_toList, cells_length]
        omega
      · rw [htake, cells_append]
        simp only []
        rw [List.take_append_of_le_length (by simp [cells_length, Nat.add_mul])]
        exact List.take_of_length_le (by simp [cells_length, Nat.add_mul])
    · have holds : (Builtin.firstCells i.size L.length (.slice (some ⟨g, 0, none⟩) L.length cap)).run P w.drew = .ok (E.cells L).toArray w.drew := by
        refine run_firstCells_some w.drew i.size L.length ⟨g, 0, none⟩ L.length cap (E.cells L) (by simp [cells_length, hsize]) ?_
        intro j u hu
        rw [addr_add, Nat.zero_add]
        exact Elem.Own.cells (w := w) (cap := cap) (.inr ⟨g, cur, rfl, hg, hlc, hcm, hcs, htake⟩) j u hu
      have hr := run_append_grow_src (P := P) w t tx ty E.ty i z ht hi hz (some ⟨g, 0, none⟩) L.length cap (E.cells L) holds x M.length (E.cells M) hsi (by omega) h63
        (growslice_fits (by omega) (by rw [hby]; exact hb))
      have hgr := grown cap (by omega) (blk (some ⟨g, 0, none⟩))
      exact ⟨_, _, _, by rw [List.length_append]; exact hr, hgr.1, hgr.2, .inr rfl⟩

theorem wp_append_any {o : Oper} {a : Act} {K : Act → World → Prop} {Q : Exit → Act → World → Prop} (s x : Operand) (t tx : TypeId)
    (ho : o.op = .call { callee := .builtin .append, args := #[s, x], argTypes := #[t, tx] })
    (i : TypeInfo) (z : Value) (by_ : Nat) (ht : P.underlying t = some (.slice E.ty)) (hi : P.info? E.ty = some i) (hz : i.zero = some z) (hsize : i.size = E.size) (hby : i.bytes = by_) (hzc : z.cells.size = E.size)
    (ao : Option Addr) (cap : Nat) (L : List α) (hs : a.eval s = .slice ao L.length cap) (h : E.Own w ao cap L) (xv : Value) (hx : a.eval x = xv) (M : List α) (hsrc : Src P E.size tx xv M.length (E.cells M) w) (hb : (L.length + M.length) * by_ ≤ 140737488355328) (hmax : L.length + M.length ≤ maxLen)
    (R : List α) (hR : L ++ M = R)
    (hK : ∀ ao' cap' w', E.Own w' ao' cap' R → w.grownBy w' (blk ao) → (ao' = ao ∨ ao' = some ⟨w.heap.size, 0, none⟩) → K (a.put o.dst (.slice ao' R.length cap')) w') : o.wp P a w K Q := by
  subst hR
  subst hx
  obtain ⟨ao', cap', w', hr, h2, h3, h4⟩ := run_append_any (P := P) w t tx o.type i z by_ ht hi hz hsize hby hzc ao cap L h _ M hsrc hb hmax
  unfold Oper.wp execOp
  simp only [ho, resolve, invoke, builtin, Sem.run_bind, Sem.run_pure, Result.andThen_ok, List.map_toArray, List.map_cons, List.map_nil, hs, hr]
  exact hK ao' cap' w' h2 h3 h4

theorem wpList_append_any {ops : Array Oper} {rest : List Oper} {o : Oper} {a : Act} {Q : Exit → Act → World → Prop} (hgd : o.guard = none) (s x : Operand) (t tx : TypeId)
    (ho : o.op = .call { callee := .builtin .append, args := #[s, x], argTypes := #[t, tx] })
    (i : TypeInfo) (z : Value) (by_ : Nat) (ht : P.underlying t = some (.slice E.ty)) (hi : P.info? E.ty = some i) (hz : i.zero = some z) (hsize : i.size = E.size) (hby : i.bytes = by_) (hzc : z.cells.size = E.size)
    (ao : Option Addr) (cap : Nat) (L : List α) (hs : a.eval s = .slice ao L.length cap) (h : E.Own w ao cap L) (xv : Value) (hx : a.eval x = xv) (M : List α) (hsrc : Src P E.size tx xv M.length (E.cells M) w) (hb : (L.length + M.length) * by_ ≤ 140737488355328) (hmax : L.length + M.length ≤ maxLen)
    (R : List α) (hR : L ++ M = R)
    (hK : ∀ ao' cap' w', E.Own w' ao' cap' R → w.grownBy w' (blk ao) → (ao' = ao ∨ ao' = some ⟨w.heap.size, 0, none⟩) → wpList P ops Q rest (a.put o.dst (.slice ao' R.length cap')) w') : wpList P ops Q (o :: rest) a w :=
  wpList_plain hgd fun _ hk => wp_append_any w s x t tx ho i z by_ ht hi hz hsize hby hzc ao cap L hs h xv hx M hsrc hb hmax R hR fun ao' cap' w' h2 h3 h4 => hk _ _ (hK ao' cap' w' h2 h3 h4)
end

/-- A pair: a code and a scalar; a range: from, to, at. -/
abbrev Pr := Int × Int
abbrev Rg := Int × Int × Int
def PE : Elem Pr where
  ty := 3
  size := 2
  enc p := [.int .i64 p.1, .int .i32 p.2]
  len _ := rfl
  one := by intro a u hu; simp at hu; rcases hu with rfl | rfl <;> rfl
def RE : Elem Rg where
  ty := 3
  size := 3
  enc p := [.int .i64 p.1, .int .i64 p.2.1, .int .i32 p.2.2]
  len _ := rfl
  one := by intro a u hu; simp at hu; rcases hu with rfl | rfl | rfl <;> rfl
end Go.Proofs.YtljkncgbabiojaaDoor.El
