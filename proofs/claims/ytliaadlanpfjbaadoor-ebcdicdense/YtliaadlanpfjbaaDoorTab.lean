/- A table in memory: its block, its row of scalars, its map. -/
import Derived.Test.YtliaadlanpfjbaaDoorDp
import Derived.Test.YtliaadlanpfjbaaDoorScalars
import Derived.Test.YtliaadlanpfjbaaDoorFormS
import Derived.WalkSmall
import Derived.Maps.OwnSet
namespace Go.Proofs.YtliaadlanpfjbaaDoor.Dn
open Go.ChangeShapes Go.WideShapes Go.ChangeAt Go.RowKit Go.Maps Go.Proofs.YtliaadlanpfjbaaDoor.Mem Go.Proofs.YtliaadlanpfjbaaDoor.Ucs Go.Proofs.YtliaadlanpfjbaaDoor.U8
set_option linter.unusedVariables false

/-- w' is w with new blocks, and with writes to blocks of S alone. -/
structure Kept (S : Nat → Prop) (w w' : World) : Prop where
  os : w'.os = w.os
  tape : w'.tape = w.tape
  output : w'.output = w.output
  size : w.heap.size ≤ w'.heap.size
  block : ∀ k, k < w.heap.size → ¬ S k → w'.heap[k]? = w.heap[k]?
theorem Kept.refl (S : Nat → Prop) (w : World) : Kept S w w := ⟨rfl, rfl, rfl, Nat.le_refl _, fun _ _ _ => rfl⟩
theorem Kept.trans {S T : Nat → Prop} {a b c : World} (h : Kept S a b) (k : Kept T b c) (hT : ∀ j, j < a.heap.size → T j → S j) : Kept S a c :=
  ⟨k.os.trans h.os, k.tape.trans h.tape, k.output.trans h.output, Nat.le_trans h.size k.size, fun i hi hn => (k.block i (Nat.lt_of_lt_of_le hi h.size) (fun e => hn (hT i hi e))).trans (h.block i hi hn)⟩
theorem Kept.mono {S T : Nat → Prop} {a b : World} (h : Kept S a b) (hT : ∀ j, j < a.heap.size → S j → T j) : Kept T a b :=
  ⟨h.os, h.tape, h.output, h.size, fun i hi hn => h.block i hi (fun e => hn (hT i hi e))⟩
theorem Kept.of {w w' : World} {row : Option Nat} (h : w.grownBy w' row) : Kept (fun k => some k = row) w w' := ⟨h.os, h.tape, h.output, h.size, fun k hk hn => h.block k hk hn⟩
theorem Kept.of0 {S : Nat → Prop} {w w' : World} (h : w.grownBy w' none) : Kept S w w' := ⟨h.os, h.tape, h.output, h.size, fun k hk hn => h.block k hk (by simp)⟩
theorem Kept.none {S : Nat → Prop} {w w1 w' : World} (h : w.grownBy w1 none) (k : Kept S w1 w') (hS : ∀ j, S j → w.heap.size ≤ j) : w.grownBy w' none :=
  ⟨k.os.trans h.os, k.tape.trans h.tape, k.output.trans h.output, Nat.le_trans h.size k.size, fun i hi _ => (k.block i (Nat.lt_of_lt_of_le hi h.size) (fun e => by have := hS i e; omega)).trans (h.block i hi (by simp))⟩

theorem law : Keyed Tryd.prog 21 := int_keyed Tryd.underlying21
theorem zeroE (w : World) : (zeroValue 5).run Tryd.prog w = .ok (.int .u8 0) w := by kernel_rfl
theorem wf32 {z : Int} (h0 : -2147483648 ≤ z) (h1 : z ≤ 2147483647) : (Lit.int .i32 z).wf = true := by
  simp only [Lit.wf, Bool.and_eq_true, decide_eq_true_eq]
  exact ⟨h0, h1⟩
theorem wf8 {z : Int} (h0 : 0 ≤ z) (h1 : z ≤ 255) : (Lit.int .u8 z).wf = true := by
  simp only [Lit.wf, Bool.and_eq_true, decide_eq_true_eq]
  exact ⟨h0, h1⟩

/-- What the map holds: of each number its byte. -/
def Holds (D : DataW Unit) (f : Nat) (zs : List Int) : Prop := ∀ u : Int, Maps.has D (.int .i32 u) = (byR f zs u).2 ∧ D.atKey (.int .i32 u) (.lit (.int .u8 0)) = .lit (.int .u8 (byR f zs u).1)
def Mp (w : World) (bm f : Nat) (zs : List Int) : Prop := ∃ n D, w.ownsMap Tryd.prog 21 (plainElem (H := Unit) Tryd.prog 5) bm n D ∧ n ≤ zs.length ∧ Holds D f zs
theorem Holds.made (f : Nat) : Holds (.map []) f [] := fun u => by rw [byR_nil]; exact ⟨rfl, rfl⟩
theorem Holds.same {D : DataW Unit} {f : Nat} {zs : List Int} {z : Int} (h : Holds D f zs) (hz : (byR f zs z).2 = true ∨ z = 65533) : Holds D f (zs ++ [z]) := fun u => by
  have e : byR f (zs ++ [z]) u = byR f zs u := by
    by_cases hu : u = z
    · subst hu
      rcases hz with hz | hz
      · exact byR_old (.inl hz)
      · exact byR_old (.inr (.inr hz))
    · exact byR_old (.inr (.inl hu))
  rw [e]
  exact h u
theorem Holds.put {D : DataW Unit} {f : Nat} {zs : List Int} {z : Int} (h : Holds D f zs) (hD : IsMap D) (hz : z ≠ 65533) (hn : (byR f zs z).2 = false) : Holds (D.put (.int .i32 z) (.lit (.int .u8 ((f : Int) + (zs.length : Int))))) f (zs ++ [z]) := fun u => by
  by_cases hu : u = z
  · subst hu
    rw [byR_new hz hn, has_put_same (k := Lit.int .i32 u) hD trivial, atKey_put_same (k := Lit.int .i32 u) hD trivial]
    exact ⟨rfl, by simp⟩
  · have hne : (Lit.int .i32 u) ≠ .int .i32 z := by intro e; injection e with _ e2; exact hu e2
    rw [byR_old (.inr (.inl hu)), has_put_other hne, atKey_put_other hne]
    exact h u

/-- A table with the first byte f and these scalars. -/
structure Tab (w : World) (B bm f : Nat) (ro : Option Addr) (rc : Nat) (zs : List Int) : Prop where
  blk : w.heap[B]? = some (.cells #[.int .i64 (f : Int), .slice ro zs.length rc, .map (some bm)] 46 (0, 0))
  own : MemR.Own w ro rc zs
  map : Mp w bm f zs
section
variable {w w' : World} {B bm f : Nat} {ro : Option Addr} {rc : Nat} {zs : List Int}
theorem Tab.c0 (h : Tab w B bm f ro rc zs) : w.cell? ⟨B, 0, none⟩ = some (.int .i64 (f : Int)) := cell_at h.blk 0 rfl
theorem Tab.c1 (h : Tab w B bm f ro rc zs) : w.cell? ⟨B, 1, none⟩ = some (.slice ro zs.length rc) := cell_at h.blk 1 rfl
theorem Tab.c2 (h : Tab w B bm f ro rc zs) : w.cell? ⟨B, 2, none⟩ = some (.map (some bm)) := cell_at h.blk 2 rfl
theorem Tab.lt (h : Tab w B bm f ro rc zs) : B < w.heap.size := lt_of_block h.blk
theorem Mp.lt (h : Mp w bm f zs) : bm < w.heap.size := by obtain ⟨n, D, h, _⟩ := h; exact h.lt
theorem Mp.isMap (h : Mp w bm f zs) : ∃ es clock, w.heap[bm]? = some (.map es clock) := by obtain ⟨n, D, ⟨es, clock, hb, _⟩, _⟩ := h; exact ⟨es, clock, hb⟩
theorem ownsMap_same {H : Type} {P : Program} {t : TypeId} {R : Value → Option (DataW H × List MemPlace)} {w w' : World} {b n : Nat} {D : DataW H} (h : w.ownsMap P t R b n D) (e : w'.heap[b]? = w.heap[b]?) : w'.ownsMap P t R b n D := by
  obtain ⟨es, clock, hb, r⟩ := h
  exact ⟨es, clock, e.trans hb, r⟩
theorem Mp.same (h : Mp w bm f zs) (e : w'.heap[bm]? = w.heap[bm]?) : Mp w' bm f zs := by
  obtain ⟨n, D, h, r⟩ := h
  exact ⟨n, D, ownsMap_same h e, r⟩
theorem own_same (h : MemR.Own w ro rc zs) (e : ∀ g, Mem.blk ro = some g → w'.heap[g]? = w.heap[g]?) : MemR.Own w' ro rc zs := by
  rcases h with h | ⟨g, cur, rfl, hh, r⟩
  · exact .inl h
  · exact .inr ⟨g, cur, rfl, (e g rfl).trans hh, r⟩
theorem Tab.map_ne (h : Tab w B bm f ro rc zs) : bm ≠ B := by
  intro e
  obtain ⟨es, clock, hb⟩ := h.map.isMap
  have := h.blk
  rw [← e, hb] at this
  cases this
theorem Tab.row_ne (h : Tab w B bm f ro rc zs) : Mem.blk ro ≠ some B := by
  intro e
  rcases h.own with ⟨rfl, _⟩ | ⟨g, cur, rfl, hh, _⟩
  · cases e
  · obtain rfl : g = B := Option.some.inj e
    have := h.blk
    rw [hh] at this
    simp at this
theorem Tab.row_map (h : Tab w B bm f ro rc zs) : Mem.blk ro ≠ some bm := by
  intro e
  rcases h.own with ⟨rfl, _⟩ | ⟨g, cur, rfl, hh, _⟩
  · cases e
  · obtain rfl : g = bm := Option.some.inj e
    obtain ⟨es, clock, hb⟩ := h.map.isMap
    rw [hh] at hb
    cases hb
theorem Tab.keptS {S : Nat → Prop} (h : Tab w B bm f ro rc zs) (hg : Kept S w w') (hB : ¬ S B) (hm : ¬ S bm) (hr : ∀ g, Mem.blk ro = some g → ¬ S g) : Tab w' B bm f ro rc zs :=
  ⟨(hg.block B h.lt hB).trans h.blk, own_same h.own (fun g e => hg.block g (h.own.lt e) (hr g e)), h.map.same (hg.block bm h.map.lt hm)⟩
theorem Tab.kept0 (h : Tab w B bm f ro rc zs) (hg : w.grownBy w' none) : Tab w' B bm f ro rc zs := h.keptS (S := fun _ => False) (Kept.of0 hg) (by simp) (by simp) (by simp)
/-- A string's iterator is none of its blocks. -/
theorem Tab.iter_ne (h : Tab w B bm f ro rc zs) {k : Nat} {s : ByteArray} {p : Nat} (hk : w.heap[k]? = some (.stringIter s p)) : k ≠ B ∧ k ≠ bm ∧ Mem.blk ro ≠ some k := by
  refine ⟨?_, ?_, ?_⟩
  · intro e; have := h.blk; rw [← e, hk] at this; cases this
  · intro e; obtain ⟨es, clock, hb⟩ := h.map.isMap; rw [← e, hk] at hb; cases hb
  · intro e
    rcases h.own with ⟨rfl, _⟩ | ⟨g, cur, rfl, hh, _⟩
    · cases e
    · obtain rfl : g = k := Option.some.inj e
      rw [hk] at hh; cases hh
end
theorem run_convert_zs {w : World} {ro : Option Addr} {rc : Nat} {us : List Nat} (h : MemR.Own w ro rc (ints us)) (hs : Sc us) :
    (convert 31 9 (.slice ro (ints us).length rc)).run Tryd.prog w = .ok (.string (str (units us))) w := by
  have hr := runes_units us hs
  rcases h with ⟨rfl, rfl, h0⟩ | ⟨g, cur, rfl, r⟩
  · have : us = [] := by cases us <;> simp [ints] at h0 ⊢
    subst this
    exact run_convert_runes_nil w 31 9 21 _ _ Tryd.underlying31 Tryd.underlying21 Tryd.underlying9
  · rw [run_convert_runes w 31 9 21 ⟨g, 0, none⟩ (ints us).length rc (ints us) (Nat.le_refl _) Tryd.underlying31 Tryd.underlying21 Tryd.underlying9 ?_, List.take_length]
    · show Result.ok (Value.string (runesBytes (us.map fun (u : Nat) => (u : Int)))) w = _
      rw [hr]
    · intro j hj
      have := MemR.Own.cell (w := w) (cap := rc) (L := ints us) (.inr ⟨g, cur, rfl, r⟩) j hj
      rw [addr_add, Nat.zero_add, this]
      simp [List.getD, List.getElem?_eq_getElem hj]
end Go.Proofs.YtliaadlanpfjbaaDoor.Dn
