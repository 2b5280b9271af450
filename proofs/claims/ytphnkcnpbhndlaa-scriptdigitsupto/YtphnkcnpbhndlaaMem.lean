/- Bytes in memory: rows that a call owns, append onto them from whatever source, and plain facts on worlds. -/
import Derived.WalkKit
import Derived.Deep.AppendSrc
import Derived.RegionTactic
namespace Go.Proofs.Ytphnkcnpbhndlaa.Mem
set_option linter.unusedVariables false
open Go.RowKit

/-- Bytes as cells. -/
def bcells (L : List UInt8) : List Value := L.map fun c => Value.int .u8 (c.toNat : Int)
theorem bcells_length (L : List UInt8) : (bcells L).length = L.length := by simp [bcells]
theorem bcells_append (L M : List UInt8) : bcells (L ++ M) = bcells L ++ bcells M := by simp [bcells]
theorem bcells_one (L : List UInt8) : ∀ u ∈ bcells L, u.oneCell' = true := by
  intro u hu
  obtain ⟨c, _, rfl⟩ := List.mem_map.1 hu
  rfl
theorem bcells_get {L : List UInt8} {j : Nat} {u : Value} (h : (bcells L)[j]? = some u) : ∃ hj : j < L.length, u = .int .u8 (L[j].toNat : Int) := by
  have hj : j < L.length := by
    have := (List.getElem?_eq_some_iff.1 h).1
    simpa [bcells] using this
  refine ⟨hj, ?_⟩
  simp [bcells, List.getElem?_eq_getElem hj] at h
  exact h.symm

/-- A slice's bytes lie in memory. -/
def Bytes (w : World) (ao : Option Addr) (L : List UInt8) : Prop :=
  (ao = none ∧ L = []) ∨ ∃ a, ao = some a ∧ ∀ j (hj : j < L.length), w.cell? (a.add j) = some (.int .u8 (L[j].toNat : Int))

/-- A slice of bytes at the head of a whole row that may be written. -/
def Own (w : World) (ao : Option Addr) (cap : Nat) (L : List UInt8) : Prop :=
  (ao = none ∧ cap = 0 ∧ L = []) ∨ ∃ g cur, ao = some ⟨g, 0, none⟩ ∧ w.heap[g]? = some (.cells cur 5 (0, 0)) ∧ L.length ≤ cap ∧ cap ≤ maxLen ∧ cur.size = cap ∧ cur.toList.take L.length = bcells L

/-- The block that an address lies in. -/
def blk (ao : Option Addr) : Option Nat := ao.map (·.block)
theorem blk_none : blk none = none := rfl
theorem blk_some (g o : Nat) (s : Option Nat) : blk (some ⟨g, o, s⟩) = some g := rfl

theorem addr_add (g o j : Nat) : (⟨g, o, none⟩ : Addr).add j = ⟨g, o + j, none⟩ := by unfold Addr.add; split <;> simp_all
theorem add_block (a : Addr) (j : Nat) : (a.add j).block = a.block := by unfold Addr.add; split <;> rfl
theorem add_add (a : Addr) (k j : Nat) : (a.add k).add j = a.add (k + j) := by
  unfold Addr.add
  by_cases h1 : k = 0
  · subst h1; simp
  · by_cases h2 : j = 0
    · subst h2; simp [h1]
    · simp [h1, h2, Nat.add_assoc]

theorem Own.cap_le {w : World} {ao : Option Addr} {cap : Nat} {L : List UInt8} (h : Own w ao cap L) : L.length ≤ cap := by
  rcases h with ⟨_, rfl, rfl⟩ | ⟨g, cur, _, _, h, _⟩
  · simp
  · exact h
theorem Own.cap_max {w : World} {ao : Option Addr} {cap : Nat} {L : List UInt8} (h : Own w ao cap L) : cap ≤ 9223372036854775807 := by
  rcases h with ⟨_, rfl, rfl⟩ | ⟨g, cur, _, _, _, h, _⟩
  · simp
  · simpa [maxLen] using h
theorem Own.lt {w : World} {ao : Option Addr} {cap : Nat} {L : List UInt8} (h : Own w ao cap L) {g : Nat} (hg : blk ao = some g) : g < w.heap.size := by
  rcases h with ⟨rfl, _, _⟩ | ⟨g', cur, rfl, hh, _⟩
  · simp [blk] at hg
  · simp [blk] at hg
    subst hg
    exact lt_of_block hh
theorem Own.form {w : World} {ao : Option Addr} {cap : Nat} {L : List UInt8} (h : Own w ao cap L) : ao = none ∨ ∃ g, ao = some ⟨g, 0, none⟩ ∧ g < w.heap.size ∧ ∃ cur, w.heap[g]? = some (.cells cur 5 (0, 0)) := by
  rcases h with ⟨rfl, _, _⟩ | ⟨g', cur, rfl, hh, _⟩
  · exact .inl rfl
  · exact .inr ⟨g', rfl, lt_of_block hh, cur, hh⟩

theorem Own.cell {w : World} {g cap : Nat} {L : List UInt8} (h : Own w (some ⟨g, 0, none⟩) cap L) (j : Nat) (hj : j < L.length) : w.cell? ⟨g, j, none⟩ = some (.int .u8 (L[j].toNat : Int)) := by
  rcases h with ⟨h, _⟩ | ⟨g', cur, h, hh, hc, _, hs, ht⟩
  · cases h
  · cases h
    have e : cur.toList[j]? = some (.int .u8 (L[j].toNat : Int)) := by
      have e1 : (cur.toList.take L.length)[j]? = cur.toList[j]? := by rw [List.getElem?_take, if_pos hj]
      rw [← e1, ht]
      simp [bcells, List.getElem?_eq_getElem hj]
    simpa [World.cell?, hh] using e
theorem Own.free {w : World} {g cap : Nat} {L : List UInt8} (h : Own w (some ⟨g, 0, none⟩) cap L) (j : Nat) : w.frozen? ⟨g, j, none⟩ = false := by
  rcases h with ⟨h, _⟩ | ⟨g', cur, h, hh, _⟩
  · cases h
  · cases h
    simp [World.frozen?, hh]
theorem Own.set {w : World} {g cap : Nat} {L : List UInt8} (h : Own w (some ⟨g, 0, none⟩) cap L) (j : Nat) (hj : j < L.length) (c : UInt8) : Own (w.setCell ⟨g, j, none⟩ (.int .u8 (c.toNat : Int))) (some ⟨g, 0, none⟩) cap (L.set j c) := by
  rcases h with ⟨h, _⟩ | ⟨g', cur, h, hh, hc, hm, hs, ht⟩
  · cases h
  · cases h
    refine .inr ⟨g, cur.setIfInBounds j (.int .u8 (c.toNat : Int)), rfl, ?_, by simpa using hc, hm, by simpa using hs, ?_⟩
    · have hlt := lt_of_block hh
      have h' : w.heap[g] = .cells cur 5 (0, 0) := by simpa [Array.getElem?_eq_getElem hlt] using hh
      show (w.heap.modify g _)[g]? = _
      rw [Array.getElem?_eq_getElem (by simpa using hlt), Array.getElem_modify_self, h']
      rfl
    · simp only [Array.toList_setIfInBounds, List.length_set]
      rw [List.take_set, ht]
      simp [bcells, List.map_set]
theorem grownBy_setCell (w : World) (a : Addr) (u : Value) : w.grownBy (w.setCell a u) (some a.block) :=
  ⟨rfl, rfl, rfl, by simp [World.setCell], fun k _ hne => Below.heap_setCell _ _ _ _ (fun e => hne (by rw [e]))⟩

theorem grownBy_refl (w : World) (row : Option Nat) : w.grownBy w row := ⟨rfl, rfl, rfl, Nat.le_refl _, fun _ _ _ => rfl⟩
theorem grownBy_trans {a b c : World} {row : Option Nat} (h : a.grownBy b row) (k : b.grownBy c row) : a.grownBy c row :=
  ⟨k.os.trans h.os, k.tape.trans h.tape, k.output.trans h.output, Nat.le_trans h.size k.size, fun i hi hn => (k.block i (Nat.lt_of_lt_of_le hi h.size) hn).trans (h.block i hi hn)⟩
theorem grownBy_any {a b : World} (row : Option Nat) (h : a.grownBy b none) : a.grownBy b row := ⟨h.os, h.tape, h.output, h.size, fun i hi _ => h.block i hi (by simp)⟩
/-- A row that is newer than the first world. -/
theorem grownBy_new {a b c : World} {row : Option Nat} (h : a.grownBy b none) (k : b.grownBy c row) (hr : ∀ g, row = some g → a.heap.size ≤ g) : a.grownBy c none :=
  ⟨k.os.trans h.os, k.tape.trans h.tape, k.output.trans h.output, Nat.le_trans h.size k.size, fun i hi _ => (k.block i (Nat.lt_of_lt_of_le hi h.size) (fun e => by have := hr i e.symm; omega)).trans (h.block i hi (by simp))⟩
theorem grownBy_drew {a b : World} {row : Option Nat} (h : a.grownBy b row) : a.grownBy b.drew row := ⟨h.os, h.tape, h.output, h.size, h.block⟩
theorem grownBy_of_drew {a b : World} {row : Option Nat} (h : a.drew.grownBy b row) : a.grownBy b row := ⟨h.os, h.tape, h.output, h.size, h.block⟩

theorem Own.kept {w w' : World} {ao : Option Addr} {cap : Nat} {L : List UInt8} {row : Option Nat} (h : Own w ao cap L) (hg : w.grownBy w' row) (hne : blk ao = none ∨ blk ao ≠ row) : Own w' ao cap L := by
  rcases h with h | ⟨g, cur, rfl, hh, r⟩
  · exact .inl h
  · refine .inr ⟨g, cur, rfl, ?_, r⟩
    rw [hg.block g (lt_of_block hh) (by simpa [blk] using hne)]
    exact hh
theorem Own.kept0 {w w' : World} {ao : Option Addr} {cap : Nat} {L : List UInt8} (h : Own w ao cap L) (hg : w.grownBy w' none) : Own w' ao cap L :=
  h.kept hg (by cases hb : blk ao <;> simp)
theorem Own.alloc {w : World} {ao : Option Addr} {cap : Nat} {L : List UInt8} (h : Own w ao cap L) (o : Obj) : Own (w.alloc o) ao cap L := h.kept0 (World.grownBy_alloc w o none)
theorem Own.drew {w : World} {ao : Option Addr} {cap : Nat} {L : List UInt8} (h : Own w ao cap L) : Own w.drew ao cap L := h
/-- An owned row is no block of another element type. -/
theorem Own.apart {w : World} {ao : Option Addr} {cap : Nat} {L : List UInt8} (h : Own w ao cap L) {b : Nat} {cs : Array Value} {t : TypeId} {fr : Nat × Nat} (hb : w.heap[b]? = some (.cells cs t fr)) (ht : t ≠ 5) : blk ao ≠ some b := by
  rcases h with ⟨rfl, _⟩ | ⟨g, cur, rfl, hh, _⟩
  · simp [blk]
  · intro e
    simp [blk] at e
    subst e
    rw [hh] at hb
    simp at hb
    exact ht hb.2.1.symm

theorem Own.bytes {w : World} {ao : Option Addr} {cap : Nat} {L : List UInt8} (h : Own w ao cap L) : Bytes w ao L := by
  rcases h with ⟨rfl, _, rfl⟩ | ⟨g, cur, rfl, r⟩
  · exact .inl ⟨rfl, rfl⟩
  · refine .inr ⟨_, rfl, fun j hj => ?_⟩
    rw [addr_add, Nat.zero_add]
    exact Own.cell (.inr ⟨g, cur, rfl, r⟩) j hj
theorem Bytes.kept {w w' : World} {ao : Option Addr} {L : List UInt8} {row : Option Nat} (h : Bytes w ao L) (hg : w.grownBy w' row) (hne : blk ao = none ∨ blk ao ≠ row) : Bytes w' ao L := by
  rcases h with h | ⟨a, rfl, hc⟩
  · exact .inl h
  · refine .inr ⟨a, rfl, fun j hj => ?_⟩
    have := hc j hj
    refine hg.cell this ?_
    rw [add_block]
    simpa [blk] using hne
theorem Bytes.kept0 {w w' : World} {ao : Option Addr} {L : List UInt8} (h : Bytes w ao L) (hg : w.grownBy w' none) : Bytes w' ao L :=
  h.kept hg (by cases hb : blk ao <;> simp)
theorem Bytes.below {w w' : World} {ao : Option Addr} {L : List UInt8} {B : Nat} (h : Bytes w ao L) (hb : Below B w w') (hlt : w.heap.size ≤ B) : Bytes w' ao L := by
  rcases h with h | ⟨a, rfl, hc⟩
  · exact .inl h
  · refine .inr ⟨a, rfl, fun j hj => ?_⟩
    have h1 := hc j hj
    have h2 := World.block_lt_of_cell? w _ h1
    rw [hb.cell (by omega)]
    exact h1
theorem Bytes.drew {w : World} {ao : Option Addr} {L : List UInt8} (h : Bytes w ao L) : Bytes w.drew ao L := h
theorem Bytes.alloc {w : World} {ao : Option Addr} {L : List UInt8} (h : Bytes w ao L) (o : Obj) : Bytes (w.alloc o) ao L := h.kept0 (World.grownBy_alloc w o none)
theorem Bytes.take {w : World} {ao : Option Addr} {L : List UInt8} (h : Bytes w ao L) (n : Nat) : Bytes w ao (L.take n) := by
  rcases h with ⟨rfl, rfl⟩ | ⟨a, rfl, hc⟩
  · exact .inl ⟨rfl, by simp⟩
  · refine .inr ⟨a, rfl, fun j hj => ?_⟩
    have hj' : j < L.length := by simp at hj; omega
    rw [List.getElem_take]
    exact hc j hj'
theorem Bytes.drop {w : World} {ao : Option Addr} {L : List UInt8} (h : Bytes w ao L) (k c : Nat) (hc : L.length ≤ c) : Bytes w (if c = k then ao else ao.map (·.add k)) (L.drop k) := by
  rcases h with ⟨rfl, rfl⟩ | ⟨a, rfl, hcell⟩
  · exact .inl ⟨by split <;> rfl, by simp⟩
  · by_cases e : c = k
    · rw [if_pos e]
      exact .inr ⟨a, rfl, fun j hj => by simp at hj; omega⟩
    · rw [if_neg e]
      refine .inr ⟨a.add k, rfl, fun j hj => ?_⟩
      have hj' : k + j < L.length := by simp at hj; omega
      rw [add_add, List.getElem_drop]
      exact hcell _ hj'
theorem blk_cut (ao : Option Addr) (k c : Nat) : blk (if c = k then ao else ao.map (·.add k)) = blk ao := by
  split
  · rfl
  · cases ao
    · rfl
    · simp [blk, add_block]

/-- A string of these bytes. -/
def str (L : List UInt8) : ByteArray := ⟨L.toArray⟩
theorem str_size (L : List UInt8) : (str L).size = L.length := by simp [str, ByteArray.size]
theorem str_toList (L : List UInt8) : (str L).toList = L := by rw [ByteArray.toList_eq]; simp [str]
theorem str_data (L : List UInt8) : (str L).data.toList = L := by simp [str]
theorem str_inj {L M : List UInt8} (h : str L = str M) : L = M := by rw [← str_toList L, h, str_toList]
theorem str_of (s : ByteArray) : str s.data.toList = s := by cases s; simp [str]

theorem conv {P : Program} {w : World} {ao : Option Addr} {L : List UInt8} (h : Bytes w ao L) (src dst c : Nat) (hs : P.underlying src = some (.slice 5)) (he : P.underlying 5 = some (.int .u8)) (hd : P.underlying dst = some .string) :
    (convert src dst (.slice ao L.length c)).run P w = .ok (.string (str L)) w := by
  rcases h with ⟨rfl, rfl⟩ | ⟨a, rfl, hc⟩
  · rw [run_convert_bytes_nil w src 5 hs he _ c dst hd]; rfl
  · rw [run_convert_bytes_back w src dst 5 a c L hs he hd hc]; rfl

theorem src_of {P : Program} {w : World} {ao : Option Addr} {M : List UInt8} (h : Bytes w ao M) (tx c : Nat) (hk : P.underlying tx = some (.slice 5)) : Src P 1 tx (.slice ao M.length c) M.length (bcells M) w := by
  rcases h with ⟨rfl, rfl⟩ | ⟨a, rfl, hc⟩
  · exact Src.ofNil w hk c
  · refine Src.ofSlice w hk a M.length c (bcells M) (by simp [bcells]) ?_ (bcells_one M)
    intro j u hu
    obtain ⟨hj, rfl⟩ := bcells_get hu
    exact hc j hj
theorem src_str {P : Program} {w : World} (s : ByteArray) (tx : Nat) (hk : P.underlying tx = some .string) : Src P 1 tx (.string s) s.data.toList.length (bcells s.data.toList) w := by
  have := Src.ofString (P := P) w hk s
  have e : s.data.toList.length = s.size := by rw [Array.length_toList]; rfl
  rw [e]
  exact this

section
variable {P : Program} (w : World)

/-- append of any bytes onto a row that the call owns. -/
theorem run_append_any (t tx ty : TypeId) (i : TypeInfo) (ht : P.underlying t = some (.slice 5)) (hi : P.info? 5 = some i) (hz : i.zero = some (.int .u8 0)) (hsize : i.size = 1) (hby : i.bytes = 1)
    (ao : Option Addr) (cap : Nat) (L : List UInt8) (h : Own w ao cap L) (x : Value) (M : List UInt8) (hs : Src P 1 tx x M.length (bcells M) w) (hb : L.length + M.length ≤ 140737488355328) :
    ∃ ao' cap' w', (Builtin.append_ #[t, tx] ty #[.slice ao L.length cap, x]).run P w = .ok (.slice ao' (L ++ M).length cap') w' ∧ Own w' ao' cap' (L ++ M) ∧ w.grownBy w' (blk ao) ∧
      (ao' = ao ∨ ao' = some ⟨w.heap.size, 0, none⟩) := by
  have hmax : L.length + M.length ≤ maxLen := by simp only [maxLen]; omega
  have hsi : Src P i.size tx x M.length (bcells M) w := by rw [hsize]; exact hs
  have grown : ∀ old, old < L.length + M.length → ∀ row, Own (w.drew.alloc (.cells ((bcells L ++ bcells M).toArray ++ Builtin.zeroCells (Value.int .u8 0).cells (grownCap w (L.length + M.length) old 5 - (L.length + M.length))) 5)) (some ⟨w.heap.size, 0, none⟩) (grownCap w (L.length + M.length) old 5) (L ++ M) ∧
      w.grownBy (w.drew.alloc (.cells ((bcells L ++ bcells M).toArray ++ Builtin.zeroCells (Value.int .u8 0).cells (grownCap w (L.length + M.length) old 5 - (L.length + M.length))) 5)) row := by
    intro old _ row
    have hge := grownCap_ge w (L.length + M.length) old 5
    have hcm : grownCap w (L.length + M.length) old 5 ≤ maxLen := grownCap_le_maxLen w _ old 5 hmax
    refine ⟨.inr ⟨w.heap.size, _, rfl, heap_alloc_new w.drew _, by simpa using hge, hcm, ?_, ?_⟩, ⟨rfl, rfl, rfl, by simp, fun k hk _ => Below.heap_alloc w.drew _ k hk⟩⟩
    · have e : (Value.int .u8 0).cells.size = 1 := rfl
      simp only [Array.size_append, List.size_toArray, size_zeroCells, e, List.length_append, bcells_length]
      omega
    · simp only [Array.toList_append]
      rw [bcells_append, List.take_append_of_le_length (by simp [bcells_length])]
      exact List.take_of_length_le (by simp [bcells_length])
  rcases h with ⟨rfl, rfl, rfl⟩ | ⟨g, cur, rfl, hg, hlc, hcm, hcs, htake⟩
  · by_cases hm : M = []
    · subst hm
      refine ⟨none, 0, w, ?_, .inl ⟨rfl, rfl, rfl⟩, grownBy_refl _ _, .inl rfl⟩
      have h1 := hs.len w
      have h2 := hsi.cells
      simp only [List.length_nil] at h1 h2
      rcases hs.kind with ⟨e', hk⟩ | hk <;> simp [Builtin.append_, run_underlying ht, run_underlying hk, sizeOf, typeInfo, hi, h1, h2, bcells]
    · have hp : 0 < M.length := List.length_pos_iff.2 hm
      have hr := run_append_grow_src (P := P) w t tx ty 5 i (.int .u8 0) ht hi hz none 0 0 [] (run_firstCells_none _ _ _ _ _) x M.length (bcells M) hsi (by omega) (by simp only [List.length_nil, Nat.zero_add] at hb; omega)
        (growslice_fits (by omega) (by rw [hby]; simpa using hb))
      have hgr := grown 0 (by simp; omega) (blk none)
      simp only [List.length_nil, Nat.zero_add, List.nil_append] at hr hgr ⊢
      have e0 : bcells [] = [] := rfl
      simp only [e0, List.nil_append] at hgr
      exact ⟨_, _, _, hr, hgr.1, hgr.2, .inr rfl⟩
  · by_cases hroom : L.length + M.length ≤ cap
    · have hst := run_storeCells_at P g L.length 5 (bcells M) 0 cur w hg (by simp [bcells_length]; omega) (bcells_one M)
      simp only [Nat.add_zero] at hst
      have hr : (Builtin.append_ #[t, tx] ty #[.slice (some ⟨g, 0, none⟩) L.length cap, x]).run P w = .ok (.slice (some ⟨g, 0, none⟩) (L.length + M.length) cap) (w.setRow g (cur.toList.take L.length ++ bcells M ++ cur.toList.drop (L.length + (bcells M).length)).toArray) := by
        rcases hs.kind with ⟨e', hk⟩ | hk <;> simp [Builtin.append_, run_underlying ht, run_underlying hk, sizeOf, typeInfo, hi, hs.len, hroom, hs.cells, Addr.add_lit, hsize, hst]
      refine ⟨_, _, _, by rw [List.length_append]; exact hr, .inr ⟨g, _, rfl, setRow_heap w g cur _ 5 _ hg, by simpa using hroom, hcm, ?_, ?_⟩, ⟨rfl, rfl, rfl, by simp, fun k _ hk => setRow_other w g k _ (fun e => hk (by simp [blk, e]))⟩, .inl rfl⟩
      · simp only [List.size_toArray, List.length_append, List.length_take, List.length_drop, Array.length_toList, bcells_length]
        omega
      · rw [htake, bcells_append]
        simp only []
        rw [List.take_append_of_le_length (by simp [bcells_length])]
        exact List.take_of_length_le (by simp [bcells_length])
    · have holds : (Builtin.firstCells i.size L.length (.slice (some ⟨g, 0, none⟩) L.length cap)).run P w.drew = .ok (bcells L).toArray w.drew := by
        refine run_firstCells_some w.drew i.size L.length ⟨g, 0, none⟩ L.length cap (bcells L) (by simp [bcells_length, hsize]) ?_
        intro j u hu
        obtain ⟨hj, rfl⟩ := bcells_get hu
        rw [addr_add, Nat.zero_add]
        exact Own.cell (w := w) (cap := cap) (.inr ⟨g, cur, rfl, hg, hlc, hcm, hcs, htake⟩) j hj
      have hr := run_append_grow_src (P := P) w t tx ty 5 i (.int .u8 0) ht hi hz (some ⟨g, 0, none⟩) L.length cap (bcells L) holds x M.length (bcells M) hsi (by omega) (by omega)
        (growslice_fits (by omega) (by rw [hby]; simpa using hb))
      have hgr := grown cap (by omega) (blk (some ⟨g, 0, none⟩))
      exact ⟨_, _, _, by rw [List.length_append]; exact hr, hgr.1, hgr.2, .inr rfl⟩

theorem wp_append_any {o : Oper} {a : Act} {K : Act → World → Prop} {Q : Exit → Act → World → Prop} (s x : Operand) (t tx : TypeId)
    (ho : o.op = .call { callee := .builtin .append, args := #[s, x], argTypes := #[t, tx] })
    (i : TypeInfo) (ht : P.underlying t = some (.slice 5)) (hi : P.info? 5 = some i) (hz : i.zero = some (.int .u8 0)) (hsize : i.size = 1) (hby : i.bytes = 1)
    (ao : Option Addr) (cap : Nat) (L : List UInt8) (hs : a.eval s = .slice ao L.length cap) (h : Own w ao cap L) (xv : Value) (hx : a.eval x = xv) (M : List UInt8) (hsrc : Src P 1 tx xv M.length (bcells M) w) (hb : L.length + M.length ≤ 140737488355328)
    (R : List UInt8) (hR : L ++ M = R)
    (hK : ∀ ao' cap' w', Own w' ao' cap' R → w.grownBy w' (blk ao) → (ao' = ao ∨ ao' = some ⟨w.heap.size, 0, none⟩) → K (a.put o.dst (.slice ao' R.length cap')) w') : o.wp P a w K Q := by
  subst hR
  subst hx
  obtain ⟨ao', cap', w', hr, h2, h3, h4⟩ := run_append_any (P := P) w t tx o.type i ht hi hz hsize hby ao cap L h _ M hsrc hb
  unfold Oper.wp execOp
  simp only [ho, resolve, invoke, builtin, Sem.run_bind, Sem.run_pure, Result.andThen_ok, List.map_toArray, List.map_cons, List.map_nil, hs, hr]
  exact hK ao' cap' w' h2 h3 h4

theorem wpList_append_any {ops : Array Oper} {rest : List Oper} {o : Oper} {a : Act} {Q : Exit → Act → World → Prop} (hgd : o.guard = none) (s x : Operand) (t tx : TypeId)
    (ho : o.op = .call { callee := .builtin .append, args := #[s, x], argTypes := #[t, tx] })
    (i : TypeInfo) (ht : P.underlying t = some (.slice 5)) (hi : P.info? 5 = some i) (hz : i.zero = some (.int .u8 0)) (hsize : i.size = 1) (hby : i.bytes = 1)
    (ao : Option Addr) (cap : Nat) (L : List UInt8) (hs : a.eval s = .slice ao L.length cap) (h : Own w ao cap L) (xv : Value) (hx : a.eval x = xv) (M : List UInt8) (hsrc : Src P 1 tx xv M.length (bcells M) w) (hb : L.length + M.length ≤ 140737488355328)
    (R : List UInt8) (hR : L ++ M = R)
    (hK : ∀ ao' cap' w', Own w' ao' cap' R → w.grownBy w' (blk ao) → (ao' = ao ∨ ao' = some ⟨w.heap.size, 0, none⟩) → wpList P ops Q rest (a.put o.dst (.slice ao' R.length cap')) w') : wpList P ops Q (o :: rest) a w :=
  wpList_plain hgd fun _ hk => wp_append_any w s x t tx ho i ht hi hz hsize hby ao cap L hs h xv hx M hsrc hb R hR fun ao' cap' w' h2 h3 h4 => hk _ _ (hK ao' cap' w' h2 h3 h4)

theorem step_append_any {ops : Array Oper} {o : Oper} {a : Act} {K : Act → World → Prop} {Q : Exit → Act → World → Prop} {E : Prop} (hgd : o.guard = none) (s x : Operand) (t tx : TypeId)
    (ho : o.op = .call { callee := .builtin .append, args := #[s, x], argTypes := #[t, tx] })
    (i : TypeInfo) (ht : P.underlying t = some (.slice 5)) (hi : P.info? 5 = some i) (hz : i.zero = some (.int .u8 0)) (hsize : i.size = 1) (hby : i.bytes = 1)
    (ao : Option Addr) (cap : Nat) (L : List UInt8) (hs : a.eval s = .slice ao L.length cap) (h : Own w ao cap L) (xv : Value) (hx : a.eval x = xv) (M : List UInt8) (hsrc : Src P 1 tx xv M.length (bcells M) w) (hb : L.length + M.length ≤ 140737488355328)
    (R : List UInt8) (hR : L ++ M = R)
    (hK : ∀ ao' cap' w', Own w' ao' cap' R → w.grownBy w' (blk ao) → (ao' = ao ∨ ao' = some ⟨w.heap.size, 0, none⟩) → K (a.put o.dst (.slice ao' R.length cap')) w') :
    if Region.wanted o (yielded ops a.tmps) = true then Oper.wp P o a w K Q else E := by
  have hw : Region.wanted o (yielded ops a.tmps) = true := by simp [Region.wanted, hgd]
  rw [if_pos hw]
  exact wp_append_any w s x t tx ho i ht hi hz hsize hby ao cap L hs h xv hx M hsrc hb R hR hK

/-- min and max of two integers, as one step of a region that draws its order. -/
theorem step_min {ops : Array Oper} {o : Oper} {a : Act} {K : Act → World → Prop} {Q : Exit → Act → World → Prop} {E : Prop} (hgd : o.guard = none) (s x : Operand) (t : TypeId)
    (ho : o.op = .call { callee := .builtin .min, args := #[s, x], argTypes := #[t, t] }) (k k' : IntKind) (y z v : Int) (hs : a.eval s = .int k y) (hx : a.eval x = .int k' z) (hv : v = if z < y then z else y)
    (hK : K (a.put o.dst (.int k v)) w) : if Region.wanted o (yielded ops a.tmps) = true then Oper.wp P o a w K Q else E := by
  have hw : Region.wanted o (yielded ops a.tmps) = true := by simp [Region.wanted, hgd]
  rw [if_pos hw]
  unfold Oper.wp execOp
  simp only [ho, resolve, invoke, builtin, Sem.run_bind, Sem.run_pure, Result.andThen_ok, List.map_toArray, List.map_cons, List.map_nil, hs, hx, run_min_int2]
  rw [← hv]
  exact hK
theorem step_max {ops : Array Oper} {o : Oper} {a : Act} {K : Act → World → Prop} {Q : Exit → Act → World → Prop} {E : Prop} (hgd : o.guard = none) (s x : Operand) (t : TypeId)
    (ho : o.op = .call { callee := .builtin .max, args := #[s, x], argTypes := #[t, t] }) (k k' : IntKind) (y z v : Int) (hs : a.eval s = .int k y) (hx : a.eval x = .int k' z) (hv : v = if y < z then z else y)
    (hK : K (a.put o.dst (.int k v)) w) : if Region.wanted o (yielded ops a.tmps) = true then Oper.wp P o a w K Q else E := by
  have hw : Region.wanted o (yielded ops a.tmps) = true := by simp [Region.wanted, hgd]
  rw [if_pos hw]
  unfold Oper.wp execOp
  simp only [ho, resolve, invoke, builtin, Sem.run_bind, Sem.run_pure, Result.andThen_ok, List.map_toArray, List.map_cons, List.map_nil, hs, hx, run_max_int2]
  rw [← hv]
  exact hK

/-- An empty slice of its own that has just been made: the row that append is called on. -/
theorem own_made : Own (w.alloc (.cells #[] 5)) (some ⟨w.heap.size, 0, none⟩) 0 [] :=
  .inr ⟨w.heap.size, #[], rfl, heap_alloc_new w _, by simp, by simp [maxLen], rfl, rfl⟩
end
end Go.Proofs.Ytphnkcnpbhndlaa.Mem
