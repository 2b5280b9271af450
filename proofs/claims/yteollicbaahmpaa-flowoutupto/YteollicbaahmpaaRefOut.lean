/- What the document's own Out answers: walks. -/
import Derived.Test.YteollicbaahmpaaOut
namespace Go.Proofs.Yteollicbaahmpaa.Mem
open Go.ChangeShapes Go.WideShapes Go.ChangeAt Go.RowKit
set_option linter.unusedVariables false

/-- The document's output: L was laid, and there is room for r. -/
structure RefOut (w : World) (b : Nat) (ao : Option Addr) (c : Nat) (L : List UInt8) (r : Int) : Prop where
  blk : w.heap[b]? = some (.cells #[.slice ao L.length c, .int .i64 r] 38 (0, 0))
  own : Own w ao c L
  nn : 0 ≤ r
  max : r ≤ 9223372036854775807
  big : L.length ≤ 140737488355328

section
variable {w w' : World} {b : Nat} {ao : Option Addr} {c : Nat} {L : List UInt8} {r : Int}
theorem RefOut.c0 (h : RefOut w b ao c L r) : w.cell? ⟨b, 0, none⟩ = some (.slice ao L.length c) := by simp [World.cell?, h.blk]
theorem RefOut.c1 (h : RefOut w b ao c L r) : w.cell? ⟨b, 1, none⟩ = some (.int .i64 r) := by simp [World.cell?, h.blk]
theorem RefOut.f (h : RefOut w b ao c L r) (j : Nat) : w.frozen? ⟨b, j, none⟩ = false := by simp [World.frozen?, h.blk]
theorem RefOut.lt (h : RefOut w b ao c L r) : b < w.heap.size := lt_of_block h.blk
theorem RefOut.keptS {S : Nat → Prop} (h : RefOut w b ao c L r) (hg : Kept S w w') (hb : ¬ S b) (hne : ∀ g, Mem.blk ao = some g → ¬ S g) : RefOut w' b ao c L r :=
  ⟨(hg.block b h.lt hb).trans h.blk, h.own.keptS hg hne, h.nn, h.max, h.big⟩
theorem RefOut.kept0 (h : RefOut w b ao c L r) (hg : w.grownBy w' none) : RefOut w' b ao c L r := h.keptS (S := fun _ => False) (Kept.of0 hg) (by simp) (by simp)
end

theorem refPut_no (w : World) (b : Nat) (ao : Option Addr) (c : Nat) (L : List UInt8) (r : Int) (s : ByteArray) (h : RefOut w b ao c L r) (hs : r < s.size) :
    Calls Try.prog 16 #[.pointer (some ⟨b, 0, none⟩), .string s] w fun e w' => e = .returned (.bool false) ∧ w' = w := by
  have c1 := h.c1
  go_enter Try.func16, Try.ntmps16
  go_wp2
  go_ret
  exact ⟨rfl, rfl⟩

set_option maxHeartbeats 1000000 in
theorem refPut_yes (w : World) (b : Nat) (ao : Option Addr) (c : Nat) (L : List UInt8) (r : Int) (s : ByteArray) (h : RefOut w b ao c L r) (hs : (s.size : Int) ≤ r) (hbig : L.length + s.size ≤ 140737488355328) :
    Calls Try.prog 16 #[.pointer (some ⟨b, 0, none⟩), .string s] w fun e w' => ∃ ao' c', e = .returned (.bool true) ∧ RefOut w' b ao' c' (L ++ s.data.toList) (r - s.size) ∧
      Kept (fun k => k = b ∨ blk ao = some k) w w' ∧ (ao' = ao ∨ ∃ g, ao' = some ⟨g, 0, none⟩ ∧ w.heap.size ≤ g) := by
  obtain ⟨i0, hi, hz0, hz1, hz2⟩ := info_parts info5
  have HL : Hid (s.data.toList.length = s.size) := by show s.data.toList.length = s.size; rw [Array.length_toList]; rfl
  have hne : blk ao ≠ some b := h.own.apart h.blk (by decide)
  have c0 := h.c0
  have c1 := h.c1
  have hx := h.max
  go_enter Try.func16, Try.ntmps16
  go_wp2_with (at_builtin; refine wpList_append_any _ rfl (.tmp 16) (.tmp 17) 22 9 rfl i0 Try.underlying22 hi hz0 hz1 hz2 ao c L rfl h.own _ rfl s.data.toList (src_str s 9 Try.underlying9) (by rw [HL.out]; exact hbig) (L ++ s.data.toList) rfl ?_)
  intro ao' c' w1 hown hg hat
  have hb1 : w1.heap[b]? = some (.cells #[.slice ao L.length c, .int .i64 r] 38 (0, 0)) := (hg.block b h.lt (Ne.symm hne)).trans h.blk
  have d0 : w1.cell? ⟨b, 0, none⟩ = some (.slice ao L.length c) := by simp [World.cell?, hb1]
  have d1 : w1.cell? ⟨b, 1, none⟩ = some (.int .i64 r) := by simp [World.cell?, hb1]
  have hf0 : w1.frozen? ⟨b, 0, none⟩ = false := by simp [World.frozen?, hb1]
  have hf1 : w1.frozen? ⟨b, 1, none⟩ = false := by simp [World.frozen?, hb1]
  have K1 : Kept (fun k => k = b ∨ blk ao = some k) w w1 := (Kept.of hg).mono (fun j _ e => .inr e.symm)
  go_wp2
  go_ret
  have g2 : ∀ v u, w1.grownBy ((w1.setCell ⟨b, 0, none⟩ v).setCell ⟨b, 1, none⟩ u) (some b) := fun v u => grownBy_trans (grownBy_setCell w1 ⟨b, 0, none⟩ v) (grownBy_setCell _ ⟨b, 1, none⟩ u)
  refine ⟨ao', c', rfl, ⟨?_, ?_, by omega, by omega, ?_⟩, ?_, ?_⟩
  · rw [block_set (block_set hb1 _ _)]
    simp
  · exact hown.kept (g2 _ _) (.inr (hown.apart hb1 (by decide)))
  · rw [List.length_append, HL.out]; omega
  · exact K1.trans (Kept.of (g2 _ _)) (fun j _ e => .inl (by simpa using e))
  · rcases hat with rfl | rfl
    · exact .inl rfl
    · exact .inr ⟨_, rfl, Nat.le_refl _⟩
end Go.Proofs.Yteollicbaahmpaa.Mem
