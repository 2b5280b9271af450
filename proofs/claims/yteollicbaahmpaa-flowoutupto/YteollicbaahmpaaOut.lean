/- What flow.Out's calls answer: walks. -/
import Derived.Test.YteollicbaahmpaaIn
namespace Go.Proofs.Yteollicbaahmpaa.Mem
open Go.ChangeShapes Go.WideShapes Go.ChangeAt Go.RowKit
set_option linter.unusedVariables false

/-- w' is w with new blocks, and with writes to blocks of S alone. -/
structure Kept (S : Nat → Prop) (w w' : World) : Prop where
  os : w'.os = w.os
  tape : w'.tape = w.tape
  output : w'.output = w.output
  size : w.heap.size ≤ w'.heap.size
  block : ∀ k, k < w.heap.size → ¬ S k → w'.heap[k]? = w.heap[k]?

theorem Kept.refl (S : Nat → Prop) (w : World) : Kept S w w := ⟨rfl, rfl, rfl, Nat.le_refl _, fun _ _ _ => rfl⟩
theorem Kept.trans {S T : Nat → Prop} {a b c : World} (h : Kept S a b) (k : Kept T b c) (hT : ∀ j, j < a.heap.size → T j → S j) : Kept S a c :=
  ⟨k.os.trans h.os, k.tape.trans h.tape, k.output.trans h.output, Nat.le_trans h.size k.size, fun i hi hn => (k.block i (Nat.lt_of_lt_of_le hi h.size) (fun e => hn (hT i hi e))).trans (h.block i hi hn)⟩
theorem Kept.mono {S T : Nat → Prop} {a b : World} (h : Kept S a b) (hT : ∀ j, j < a.heap.size → S j → T j) : Kept T a b :=
  ⟨h.os, h.tape, h.output, h.size, fun i hi hn => h.block i hi (fun e => hn (hT i hi e))⟩
theorem Kept.of {w w' : World} {row : Option Nat} (h : w.grownBy w' row) : Kept (fun k => some k = row) w w' := ⟨h.os, h.tape, h.output, h.size, fun k hk hn => h.block k hk hn⟩
theorem Kept.of0 {S : Nat → Prop} {w w' : World} (h : w.grownBy w' none) : Kept S w w' := ⟨h.os, h.tape, h.output, h.size, fun k hk hn => h.block k hk (by simp)⟩
theorem Kept.one {w w' : World} {b : Nat} (h : Kept (fun k => k = b) w w') : w.grownBy w' (some b) := ⟨h.os, h.tape, h.output, h.size, fun k hk hn => h.block k hk (fun e => hn (by rw [e]))⟩
theorem Kept.below {S : Nat → Prop} {a w w' : World} {B : Nat} (h : Below B a w) (k : Kept S w w') (hB : B ≤ w.heap.size) (hS : ∀ j, S j → B ≤ j) : Below B a w' :=
  h.trans ⟨k.os, k.tape, k.output, k.size, fun i hi => k.block i (by omega) (fun e => by have := hS i e; omega)⟩
theorem Own.keptS {S : Nat → Prop} {w w' : World} {ao : Option Addr} {cap : Nat} {L : List UInt8} (h : Own w ao cap L) (hg : Kept S w w') (hne : ∀ g, blk ao = some g → ¬ S g) : Own w' ao cap L := by
  rcases h with h | ⟨g, cur, rfl, hh, r⟩
  · exact .inl h
  · refine .inr ⟨g, cur, rfl, ?_, r⟩
    rw [hg.block g (lt_of_block hh) (hne g rfl)]
    exact hh
theorem InAt.keptS {S : Nat → Prop} {w w' : World} {b : Nat} {ao : Option Addr} {c : Nat} {L : List UInt8} {k : Nat} (h : InAt w b ao c L k) (hg : Kept S w w') (hb : ¬ S b) (hne : ∀ g, Mem.blk ao = some g → ¬ S g) : InAt w' b ao c L k :=
  ⟨(hg.block b h.lt hb).trans h.blk, h.own.keptS hg hne, h.le, h.big⟩

/-- An output that has the bytes L, and room for r. -/
structure OutAt (w : World) (b : Nat) (ao : Option Addr) (c : Nat) (L : List UInt8) (r : Int) : Prop where
  blk : w.heap[b]? = some (.cells #[.int .i64 (L.length : Int), .int .i64 r, .slice ao L.length c] 51 (0, 0))
  own : Own w ao c L
  nn : 0 ≤ r
  sum : (L.length : Int) + r ≤ 9223372036854775807
  big : L.length ≤ 140737488355328

section
variable {w w' : World} {b : Nat} {ao : Option Addr} {c : Nat} {L : List UInt8} {r : Int}
theorem OutAt.c0 (h : OutAt w b ao c L r) : w.cell? ⟨b, 0, none⟩ = some (.int .i64 (L.length : Int)) := by simp [World.cell?, h.blk]
theorem OutAt.c1 (h : OutAt w b ao c L r) : w.cell? ⟨b, 1, none⟩ = some (.int .i64 r) := by simp [World.cell?, h.blk]
theorem OutAt.c2 (h : OutAt w b ao c L r) : w.cell? ⟨b, 2, none⟩ = some (.slice ao L.length c) := by simp [World.cell?, h.blk]
theorem OutAt.f (h : OutAt w b ao c L r) (j : Nat) : w.frozen? ⟨b, j, none⟩ = false := by simp [World.frozen?, h.blk]
theorem OutAt.lt (h : OutAt w b ao c L r) : b < w.heap.size := lt_of_block h.blk
theorem OutAt.keptS {S : Nat → Prop} (h : OutAt w b ao c L r) (hg : Kept S w w') (hb : ¬ S b) (hne : ∀ g, Mem.blk ao = some g → ¬ S g) : OutAt w' b ao c L r :=
  ⟨(hg.block b h.lt hb).trans h.blk, h.own.keptS hg hne, h.nn, h.sum, h.big⟩
theorem OutAt.kept0 (h : OutAt w b ao c L r) (hg : w.grownBy w' none) : OutAt w' b ao c L r := h.keptS (S := fun _ => False) (Kept.of0 hg) (by simp) (by simp)
/-- While another struct's block is written. -/
theorem OutAt.aside {q : Nat} {cs : Array Value} {t : TypeId} {fr : Nat × Nat} (h : OutAt w b ao c L r) (hg : w.grownBy w' (some q)) (hr : w.heap[q]? = some (.cells cs t fr)) (h5 : t ≠ 5) (h51 : t ≠ 51) : OutAt w' b ao c L r := by
  refine h.keptS (Kept.of hg) ?_ ?_
  · intro e
    simp at e
    subst e
    rw [h.blk] at hr
    simp at hr
    exact h51 hr.2.1.symm
  · intro g hg' e
    exact h.own.apart hr h5 (hg'.trans e)
end

set_option maxHeartbeats 1000000 in
theorem newOut_any (room : Int) (w : World) (h63 : room ≤ 9223372036854775807) :
    Calls Try.prog 14 #[.int .i64 room] w fun e w' => ∃ b, e = .returned (.pointer (some ⟨b, 0, none⟩)) ∧ OutAt w' b none 0 [] (max room 0) ∧ w.grownBy w' none ∧ w.heap.size ≤ b := by
  rcases (show room < 0 ∨ 0 ≤ room by omega) with h | h
  · have HM : Hid (max room 0 = 0) := by show max room 0 = 0; omega
    rw [HM.out]
    go_enter Try.func14, Try.ntmps14
    go_wp2
    go_ret
    refine ⟨w.heap.size, rfl, ⟨?_, .inl ⟨rfl, rfl, rfl⟩, by simp, by simp, by simp⟩, World.grownBy_alloc _ _ _, Nat.le_refl _⟩
    rw [heap_alloc_new]
    rfl
  · have HM : Hid (max room 0 = room) := by show max room 0 = room; omega
    rw [HM.out]
    go_enter Try.func14, Try.ntmps14
    go_wp2
    go_ret
    refine ⟨w.heap.size, rfl, ⟨?_, .inl ⟨rfl, rfl, rfl⟩, h, by simpa using h63, by simp⟩, World.grownBy_alloc _ _ _, Nat.le_refl _⟩
    rw [heap_alloc_new]
    rfl

theorem room_any (w : World) (b : Nat) (ao : Option Addr) (c : Nat) (L : List UInt8) (r : Int) (h : OutAt w b ao c L r) :
    Calls Try.prog 17 #[.pointer (some ⟨b, 0, none⟩)] w fun e w' => e = .returned (.int .i64 r) ∧ w' = w := by
  go_enter Try.func17, Try.ntmps17
  go_wp2_with (go_at_call 21; refine (still_any b _ _ h.c1).mono ?_; rintro e w' ⟨rfl, rfl⟩)
  go_ret
  exact ⟨rfl, rfl⟩

set_option maxHeartbeats 1000000 in
theorem bytes_any (w : World) (b : Nat) (ao : Option Addr) (c : Nat) (L : List UInt8) (r : Int) (h : OutAt w b ao c L r) :
    Calls Try.prog 18 #[.pointer (some ⟨b, 0, none⟩)] w fun e w' => ∃ ao' c', e = .returned (.slice ao' L.length c') ∧ Own w' ao' c' L ∧ w.grownBy w' none ∧ (∀ g, blk ao' = some g → w.heap.size ≤ g) := by
  have c2 := h.c2
  go_enter Try.func18, Try.ntmps18
  go_wp2_with (go_at_call 20; refine (clone_any _ _ L _ ?_ h.big).mono ?_; exact h.own.bytes; rintro e w1 ⟨ao', c', rfl, hown, hg, hat⟩)
  go_ret
  exact ⟨ao', c', rfl, hown, hg, hat⟩

theorem put_no (w : World) (b : Nat) (ao : Option Addr) (c : Nat) (L : List UInt8) (r : Int) (s : ByteArray) (h : OutAt w b ao c L r) (hs : r < s.size) :
    Calls Try.prog 15 #[.pointer (some ⟨b, 0, none⟩), .string s] w fun e w' => e = .returned (.bool false) ∧ w' = w := by
  go_enter Try.func15, Try.ntmps15
  go_wp2_with (go_at_call 23; refine (pass_no b _ _ _ h.c1 (.inr hs)).mono ?_; rintro e w' ⟨rfl, rfl⟩)
  go_ret
  exact ⟨rfl, rfl⟩

theorem passOut (w : World) (b : Nat) (ao : Option Addr) (c : Nat) (L : List UInt8) (r : Int) (n : Nat) (h : OutAt w b ao c L r) (hn : (n : Int) ≤ r) :
    Calls Try.prog 23 #[.pointer (some ⟨b, 0, none⟩), .int .i64 (n : Int)] w fun e w' => e = .returned (.bool true) ∧ w'.heap[b]? = some (.cells #[.int .i64 ((L.length : Int) + n), .int .i64 (r - n), .slice ao L.length c] 51 (0, 0)) ∧ w.grownBy w' (some b) := by
  have hs := h.sum
  refine (pass_yes b _ _ _ _ h.c0 h.c1 (h.f 0) (h.f 1) (by omega) (by omega) (by omega) (by omega)).mono ?_
  rintro e w' ⟨rfl, rfl⟩
  refine ⟨rfl, ?_, grownBy_trans (grownBy_setCell _ _ _) (grownBy_setCell _ ⟨b, 1, none⟩ _)⟩
  rw [block_set (block_set h.blk _ _)]
  simp

set_option maxHeartbeats 1000000 in
theorem put_yes (w : World) (b : Nat) (ao : Option Addr) (c : Nat) (L : List UInt8) (r : Int) (s : ByteArray) (h : OutAt w b ao c L r) (hs : (s.size : Int) ≤ r) (hbig : L.length + s.size ≤ 140737488355328) :
    Calls Try.prog 15 #[.pointer (some ⟨b, 0, none⟩), .string s] w fun e w' => ∃ ao' c', e = .returned (.bool true) ∧ OutAt w' b ao' c' (L ++ s.data.toList) (r - s.size) ∧
      Kept (fun k => k = b ∨ blk ao = some k) w w' ∧ (ao' = ao ∨ ∃ g, ao' = some ⟨g, 0, none⟩ ∧ w.heap.size ≤ g) := by
  obtain ⟨i0, hi, hz0, hz1, hz2⟩ := info_parts info5
  have HL : Hid (s.data.toList.length = s.size) := by show s.data.toList.length = s.size; rw [Array.length_toList]; rfl
  have hne : blk ao ≠ some b := h.own.apart h.blk (by decide)
  go_enter Try.func15, Try.ntmps15
  go_wp2_with (first
    | (go_at_call 23; refine (passOut _ b ao c L r s.size h hs).mono ?_; rintro e w2 ⟨rfl, hb2, hg2⟩; have hown2 : Own w2 ao c L := h.own.kept hg2 (.inr hne); have hc2 : w2.cell? ⟨b, 2, none⟩ = some (.slice ao L.length c) := by simp [World.cell?, hb2])
    | (at_builtin; refine wpList_append_any _ rfl _ _ 22 9 rfl i0 Try.underlying22 hi hz0 hz1 hz2 ao c L rfl (by assumption) _ rfl s.data.toList (src_str s 9 Try.underlying9) (by rw [HL.out]; exact hbig) (L ++ s.data.toList) rfl ?_))
  intro ao' c' w1 hown hg hat
  have hb2 : w2.heap[b]? = some (.cells #[.int .i64 ((L.length : Int) + s.size), .int .i64 (r - s.size), .slice ao L.length c] 51 (0, 0)) := by assumption
  have hb1 : w1.heap[b]? = some (.cells #[.int .i64 ((L.length : Int) + s.size), .int .i64 (r - s.size), .slice ao L.length c] 51 (0, 0)) := (hg.block b (lt_of_block hb2) (Ne.symm hne)).trans hb2
  have hc1 : w1.cell? ⟨b, 2, none⟩ = some (.slice ao L.length c) := by simp [World.cell?, hb1]
  have hf1 : w1.frozen? ⟨b, 2, none⟩ = false := by simp [World.frozen?, hb1]
  have K1 : Kept (fun k => k = b ∨ blk ao = some k) w w1 := (Kept.of hg2).mono (fun j _ e => .inl (by simpa using e)) |>.trans (Kept.of hg) (fun j _ e => .inr e.symm)
  go_wp2
  go_ret
  have hs2 := h.sum
  refine ⟨ao', c', rfl, ⟨?_, ?_, by omega, ?_, ?_⟩, ?_, ?_⟩
  · rw [block_set hb1]
    simp [HL.out]
  · exact hown.kept (grownBy_setCell _ ⟨b, 2, none⟩ _) (.inr (hown.apart hb1 (by decide)))
  · rw [List.length_append, HL.out]; omega
  · rw [List.length_append, HL.out]; omega
  · exact K1.trans (Kept.of (grownBy_setCell _ ⟨b, 2, none⟩ _)) (fun j _ e => .inl (by simpa using e))
  · rcases hat with rfl | rfl
    · exact .inl rfl
    · exact .inr ⟨_, rfl, hg2.size⟩
end Go.Proofs.Yteollicbaahmpaa.Mem
