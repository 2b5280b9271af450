/- What a round does to an output and to the document's: plain facts. -/
import Derived.Test.YteollicbaahmpaaMoves
import Derived.Test.YteollicbaahmpaaInMoves
import Derived.Test.YteollicbaahmpaaRefOut
namespace Go.Proofs.Yteollicbaahmpaa.Mem
open Go.ChangeShapes Go.WideShapes Go.ChangeAt Go.RowKit
set_option linter.unusedVariables false

theorem refOut_made (w : World) (r : Int) (h0 : 0 ≤ r) (h1 : r ≤ 9223372036854775807) : RefOut (w.alloc (.cells #[.slice none 0 0, .int .i64 r] 38)) w.heap.size none 0 [] r := by
  refine ⟨?_, .inl ⟨rfl, rfl, rfl⟩, h0, h1, by simp⟩
  rw [heap_alloc_new]; rfl

section
variable {w w' : World} {d q zc yc : Nat} {zo yo : Option Addr} {T U : List UInt8} {x y : Int}
/-- What is put into the one leaves the other alone. -/
theorem ref_put (h : RefOut w q yo yc T x) (ho : OutAt w d zo zc U y) (hk : Kept (fun j => j = d ∨ blk zo = some j) w w') (hs : ∀ g, blk zo = some g → blk yo ≠ some g) : RefOut w' q yo yc T x := by
  refine h.keptS hk ?_ ?_
  · rintro (rfl | e)
    · have h1 := h.blk
      rw [ho.blk] at h1
      simp at h1
    · exact ho.own.apart h.blk (by decide) e
  · intro g hg
    rintro (rfl | e)
    · exact h.own.apart ho.blk (by decide) hg
    · exact hs g e hg
theorem out_put (h : OutAt w d zo zc T x) (ho : RefOut w q yo yc U y) (hk : Kept (fun j => j = q ∨ blk yo = some j) w w') (hs : ∀ g, blk zo = some g → blk yo ≠ some g) : OutAt w' d zo zc T x := by
  refine h.keptS hk ?_ ?_
  · rintro (rfl | e)
    · have h1 := h.blk
      rw [ho.blk] at h1
      simp at h1
    · exact ho.own.apart h.blk (by decide) e
  · intro g hg
    rintro (rfl | e)
    · exact h.own.apart ho.blk (by decide) hg
    · exact hs g hg e
theorem OutAt.newer {row : Option Nat} {B : Nat} (h : OutAt w d zo zc T x) (hg : w.grownBy w' row) (hb : d < B) (ha : ∀ g, Mem.blk zo = some g → g < B) (hr : ∀ g, row = some g → B ≤ g) : OutAt w' d zo zc T x := by
  refine h.keptS (Kept.of hg) ?_ ?_
  · intro e; have := hr d e.symm; omega
  · intro g hg' e; have := hr g e.symm; have := ha g hg'; omega
theorem RefOut.newer {row : Option Nat} {B : Nat} (h : RefOut w q yo yc T x) (hg : w.grownBy w' row) (hb : q < B) (ha : ∀ g, Mem.blk yo = some g → g < B) (hr : ∀ g, row = some g → B ≤ g) : RefOut w' q yo yc T x := by
  refine h.keptS (Kept.of hg) ?_ ?_
  · intro e; have := hr q e.symm; omega
  · intro g hg' e; have := hr g e.symm; have := ha g hg'; omega
end
/-- The two rows stay apart when the one has moved. -/
theorem sep_left {w : World} {zo zo' yo : Option Addr} {c : Nat} {T : List UInt8} (ho : Own w yo c T) (h : ∀ g, blk zo = some g → blk yo ≠ some g) (hz : zo' = zo ∨ ∃ g, zo' = some ⟨g, 0, none⟩ ∧ w.heap.size ≤ g) : ∀ g, blk zo' = some g → blk yo ≠ some g := put_sep ho h hz
theorem sep_right {w : World} {zo yo yo' : Option Addr} {c : Nat} {T : List UInt8} (ho : Own w zo c T) (h : ∀ g, blk zo = some g → blk yo ≠ some g) (hy : yo' = yo ∨ ∃ g, yo' = some ⟨g, 0, none⟩ ∧ w.heap.size ≤ g) : ∀ g, blk zo = some g → blk yo' ≠ some g := by
  rcases hy with rfl | ⟨x, rfl, hx⟩
  · exact h
  · intro g e f
    simp [blk] at f
    subst f
    have := ho.lt e
    omega
theorem len_more {T : List UInt8} {k : Nat} (h : T.length ≤ k * 1048576) : T.length ≤ (k + 1) * 1048576 := Nat.le_trans h (Nat.mul_le_mul_right _ (Nat.le_succ k))
theorem len_big {T : List UInt8} {k : Nat} (h : T.length ≤ k * 1048576) (hk : k ≤ 60) : T.length ≤ 140737488351232 := by omega
theorem len_fit {T : List UInt8} {s : ByteArray} {k : Nat} (h : T.length ≤ k * 1048576) (hk : k ≤ 60) (hs : s.size ≤ 1048576) : T.length + s.size ≤ 140737488355328 := by omega
theorem more_len {T : List UInt8} {s : ByteArray} {k : Nat} (h : T.length ≤ k * 1048576) (hs : s.size ≤ 1048576) : (T ++ s.data.toList).length ≤ (k + 1) * 1048576 := by
  rw [List.length_append]
  have e : s.data.toList.length = s.size := by rw [Array.length_toList]; rfl
  omega
end Go.Proofs.Yteollicbaahmpaa.Mem
