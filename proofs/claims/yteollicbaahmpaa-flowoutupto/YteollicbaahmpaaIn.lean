/- What flow.In's calls answer: walks. -/
import Derived.BigQuiet
import Derived.Deep.QuietTactic
import Derived.Test.YteollicbaahmpaaSpan
namespace Go.Proofs.Yteollicbaahmpaa.Mem
open Go.ChangeShapes Go.WideShapes Go.ChangeAt Go.RowKit
set_option linter.unusedVariables false

/-- An input of the bytes L of which k are taken. -/
structure InAt (w : World) (b : Nat) (ao : Option Addr) (c : Nat) (L : List UInt8) (k : Nat) : Prop where
  blk : w.heap[b]? = some (.cells #[.int .i64 (k : Int), .int .i64 ((L.length : Int) - k), .slice ao L.length c] 49 (0, 0))
  own : Own w ao c L
  le : k ≤ L.length
  big : L.length ≤ 140737488355328

section
variable {w w' : World} {b : Nat} {ao : Option Addr} {c : Nat} {L : List UInt8} {k : Nat}
theorem InAt.c0 (h : InAt w b ao c L k) : w.cell? ⟨b, 0, none⟩ = some (.int .i64 (k : Int)) := by simp [World.cell?, h.blk]
theorem InAt.c1 (h : InAt w b ao c L k) : w.cell? ⟨b, 1, none⟩ = some (.int .i64 ((L.length : Int) - k)) := by simp [World.cell?, h.blk]
theorem InAt.c2 (h : InAt w b ao c L k) : w.cell? ⟨b, 2, none⟩ = some (.slice ao L.length c) := by simp [World.cell?, h.blk]
theorem InAt.f (h : InAt w b ao c L k) (j : Nat) : w.frozen? ⟨b, j, none⟩ = false := by simp [World.frozen?, h.blk]
theorem InAt.lt (h : InAt w b ao c L k) : b < w.heap.size := lt_of_block h.blk
theorem InAt.kept {row : Option Nat} (h : InAt w b ao c L k) (hg : w.grownBy w' row) (hb : some b ≠ row) (ho : Mem.blk ao = none ∨ Mem.blk ao ≠ row) : InAt w' b ao c L k :=
  ⟨(hg.block b h.lt hb).trans h.blk, h.own.kept hg ho, h.le, h.big⟩
theorem InAt.kept0 (h : InAt w b ao c L k) (hg : w.grownBy w' none) : InAt w' b ao c L k :=
  h.kept hg (by simp) (by cases hb : Mem.blk ao <;> simp)
/-- While another struct's block is written. -/
theorem InAt.aside {r : Nat} {cs : Array Value} {t : TypeId} {fr : Nat × Nat} (h : InAt w b ao c L k) (hg : w.grownBy w' (some r)) (hr : w.heap[r]? = some (.cells cs t fr)) (h5 : t ≠ 5) (h49 : t ≠ 49) : InAt w' b ao c L k := by
  refine h.kept hg ?_ (.inr (h.own.apart hr h5))
  intro e
  simp at e
  subst e
  rw [h.blk] at hr
  simp at hr
  exact h49 hr.2.1.symm
theorem block_set {w : World} {b : Nat} {cs : Array Value} {t : TypeId} {fr : Nat × Nat} (h : w.heap[b]? = some (.cells cs t fr)) (j : Nat) (u : Value) : (w.setCell ⟨b, j, none⟩ u).heap[b]? = some (.cells (cs.setIfInBounds j u) t fr) := by
  have hlt := lt_of_block h
  have h' : w.heap[b] = .cells cs t fr := by simpa [Array.getElem?_eq_getElem hlt] using h
  show (w.heap.modify b _)[b]? = _
  rw [Array.getElem?_eq_getElem (by simpa using hlt), Array.getElem_modify_self, h']
  rfl
theorem InAt.step (h : InAt w b ao c L k) (n : Nat) (hn : k + n ≤ L.length) :
    InAt ((w.setCell ⟨b, 0, none⟩ (.int .i64 ((k : Int) + n))).setCell ⟨b, 1, none⟩ (.int .i64 (((L.length : Int) - k) - n))) b ao c L (k + n) ∧
    w.grownBy ((w.setCell ⟨b, 0, none⟩ (.int .i64 ((k : Int) + n))).setCell ⟨b, 1, none⟩ (.int .i64 (((L.length : Int) - k) - n))) (some b) := by
  have g1 := grownBy_setCell w ⟨b, 0, none⟩ (.int .i64 ((k : Int) + n))
  have g2 := grownBy_setCell (w.setCell ⟨b, 0, none⟩ (.int .i64 ((k : Int) + n))) ⟨b, 1, none⟩ (.int .i64 (((L.length : Int) - k) - n))
  have g := grownBy_trans g1 g2
  refine ⟨⟨?_, ?_, hn, h.big⟩, g⟩
  · rw [block_set (block_set h.blk _ _)]
    simp
    omega
  · exact h.own.kept g (.inr (h.own.apart h.blk (by decide)))
end

set_option maxHeartbeats 1000000 in
theorem newIn_any (ao : Option Addr) (c : Nat) (L : List UInt8) (w : World) (hB : Bytes w ao L) (hl : L.length ≤ 140737488355328) :
    Calls Try.prog 7 #[.slice ao L.length c] w fun e w' => ∃ b ao' c', e = .returned (.pointer (some ⟨b, 0, none⟩)) ∧ InAt w' b ao' c' L 0 ∧ w.grownBy w' none ∧ w.heap.size ≤ b ∧ (∀ g, blk ao' = some g → w.heap.size ≤ g) := by
  have A : Hid (Bytes w ao L) := hB
  clear hB
  go_enter Try.func7, Try.ntmps7
  go_wp2_with (go_at_call 20; refine (clone_any _ _ L _ ?_ hl).mono ?_; exact A.out; rintro e w1 ⟨ao', c', rfl, hown, hg, hat⟩)
  go_ret
  refine ⟨w1.heap.size, ao', c', rfl, ⟨?_, hown.alloc _, Nat.zero_le _, hl⟩, grownBy_trans hg (World.grownBy_alloc _ _ _), hg.size, hat⟩
  rw [heap_alloc_new]
  simp

theorem left_any (w : World) (b : Nat) (ao : Option Addr) (c : Nat) (L : List UInt8) (k : Nat) (h : InAt w b ao c L k) :
    Calls Try.prog 12 #[.pointer (some ⟨b, 0, none⟩)] w fun e w' => e = .returned (.int .i64 ((L.length : Int) - k)) ∧ w' = w := by
  go_enter Try.func12, Try.ntmps12
  go_wp2_with (go_at_call 21; refine (still_any b _ _ h.c1).mono ?_; rintro e w' ⟨rfl, rfl⟩)
  go_ret
  exact ⟨rfl, rfl⟩

theorem at_any (w : World) (b : Nat) (ao : Option Addr) (c : Nat) (L : List UInt8) (k : Nat) (h : InAt w b ao c L k) :
    Calls Try.prog 13 #[.pointer (some ⟨b, 0, none⟩)] w fun e w' => e = .returned (.int .i64 (k : Int)) ∧ w' = w := by
  go_enter Try.func13, Try.ntmps13
  go_wp2_with (go_at_call 22; refine (past_any b _ _ h.c0).mono ?_; rintro e w' ⟨rfl, rfl⟩)
  go_ret
  exact ⟨rfl, rfl⟩

theorem skip_no (w : World) (b : Nat) (ao : Option Addr) (c : Nat) (L : List UInt8) (k : Nat) (n : Int) (h : InAt w b ao c L k) (hn : n < 0 ∨ (L.length : Int) - k < n) :
    Calls Try.prog 10 #[.pointer (some ⟨b, 0, none⟩), .int .i64 n] w fun e w' => e = .returned (.bool false) ∧ w' = w := by
  have H : Hid (n < 0 ∨ (L.length : Int) - k < n) := hn
  clear hn
  go_enter Try.func10, Try.ntmps10
  go_wp2_with (go_at_call 23; refine (pass_no b _ _ _ h.c1 H.out).mono ?_; rintro e w' ⟨rfl, rfl⟩)
  go_ret
  exact ⟨rfl, rfl⟩

theorem skip_yes (w : World) (b : Nat) (ao : Option Addr) (c : Nat) (L : List UInt8) (k n : Nat) (h : InAt w b ao c L k) (hn : k + n ≤ L.length) :
    Calls Try.prog 10 #[.pointer (some ⟨b, 0, none⟩), .int .i64 (n : Int)] w fun e w' => e = .returned (.bool true) ∧ InAt w' b ao c L (k + n) ∧ w.grownBy w' (some b) := by
  have hl := h.big
  go_enter Try.func10, Try.ntmps10
  go_wp2_with (go_at_call 23; refine (pass_yes b _ _ _ _ h.c0 h.c1 (h.f 0) (h.f 1) (by omega) (by omega) (by omega) (by omega)).mono ?_; rintro e w' ⟨rfl, rfl⟩)
  go_ret
  exact ⟨rfl, h.step n hn⟩

theorem clone_len (ao : Option Addr) (m c : Nat) (L : List UInt8) (w : World) (hm : m = L.length) (hB : Bytes w ao L) (hl : L.length ≤ 140737488355328) :
    Calls Try.prog 20 #[.slice ao m c] w fun e w' => ∃ ao' c', e = .returned (.slice ao' L.length c') ∧ Own w' ao' c' L ∧ w.grownBy w' none ∧ (∀ g, blk ao' = some g → w.heap.size ≤ g) := by
  subst hm
  exact clone_any ao c L w hB hl

/-- As many of n as there are. -/
theorem peek_len {L : List UInt8} {k : Nat} {n : Int} : ((L.drop k).take n.toNat).length = min n.toNat (L.length - k) := by simp

set_option maxHeartbeats 1000000 in
theorem peek_any (w : World) (b : Nat) (ao : Option Addr) (c : Nat) (L : List UInt8) (k : Nat) (n : Int) (h : InAt w b ao c L k) :
    Calls Try.prog 8 #[.pointer (some ⟨b, 0, none⟩), .int .i64 n] w fun e w' => ∃ ao' c', e = .returned (.slice ao' ((L.drop k).take n.toNat).length c') ∧ Own w' ao' c' ((L.drop k).take n.toNat) ∧ w.grownBy w' none ∧ (∀ g, blk ao' = some g → w.heap.size ≤ g) := by
  have hl := h.big
  have hk := h.le
  have hc := h.own.cap_le
  have hm := h.own.cap_max
  have c0 := h.c0
  have c1 := h.c1
  have c2 := h.c2
  have HB : Hid (Bytes w (if c = k then ao else ao.map (·.add k)) ((L.drop k).take n.toNat)) := (h.own.bytes.drop k c hc).take _
  have HL : Hid (((L.drop k).take n.toNat).length = min n.toNat (L.length - k)) := peek_len
  obtain ⟨M, HM⟩ : ∃ M, Hid (M = (L.drop k).take n.toNat) := ⟨_, rfl⟩
  have HM' : Hid ((L.drop k).take n.toNat = M) := HM.out.symm
  rw [HM'.out] at HB HL ⊢
  clear h HM HM'
  have a0 : (0 : Int) ≤ (k : Int) := by omega
  have a1 : (k : Int) ≤ (L.length : Int) := by omega
  have a2 : (L.length : Int) ≤ (c : Int) := by omega
  rcases (show n < 0 ∨ (0 ≤ n ∧ n ≤ (L.length : Int) - k) ∨ (0 ≤ n ∧ (L.length : Int) - k < n) by omega) with hn | ⟨hn, hr⟩ | ⟨hn, hr⟩
  all_goals
    go_enter Try.func8, Try.ntmps8
    go_wp2_with (go_at_call 21; refine (still_any b _ _ c1).mono ?_; rintro e w' ⟨rfl, rfl⟩)
    go_quiet ((go_at_call 22; exact Calls.quiet_of_same (past_any b _ _ c0)))
    go_wp2_with (go_at_call 20; refine (clone_len _ _ _ M _ ?_ ?_ ?_).mono ?_; (rw [HL.out]; omega); (first | (have := HB.out; rw [if_pos (by assumption)] at this; exact this) | (have := HB.out; rw [if_neg (by assumption)] at this; exact this)); (rw [HL.out]; omega); rintro e w1 ⟨ao', c', rfl, hown, hg, hat⟩)
    all_goals
      go_ret
      exact ⟨ao', c', rfl, hown, ⟨hg.os, hg.tape, hg.output, hg.size, hg.block⟩, hat⟩
end Go.Proofs.Yteollicbaahmpaa.Mem
