/- What a round does to both ends: plain facts on worlds. -/
import Derived.Test.YteollicbaahmpaaWorks
import Derived.Test.YteollicbaahmpaaArgs
namespace Go.Proofs.Yteollicbaahmpaa.Mem
open Go.ChangeShapes Go.WideShapes Go.ChangeAt Go.RowKit
set_option linter.unusedVariables false

theorem out_more {w : World} {d : Nat} {zo : Option Addr} {zc : Nat} {L M : List UInt8} {p n : Nat} {r : Int} (h : OutAt w d zo zc (L.take p ++ (str M).data.toList) (r - p - (str M).size)) (hM : (L.drop p).take n = M) :
    OutAt w d zo zc (L.take (p + M.length)) (r - ((p + M.length : Nat) : Int)) := by
  subst hM
  rw [str_data, take_more, str_size] at h
  have e : r - (p : Int) - (((L.drop p).take n).length : Int) = r - ((p + ((L.drop p).take n).length : Nat) : Int) := by omega
  rw [e] at h
  exact h

/-- In's row and Out's row, one written, the other not. -/
theorem put_sep {w : World} {ao zo zo' : Option Addr} {c : Nat} {L : List UInt8} (ho : Own w ao c L) (h : ∀ g, blk zo = some g → blk ao ≠ some g) (hz : zo' = zo ∨ ∃ g, zo' = some ⟨g, 0, none⟩ ∧ w.heap.size ≤ g) : ∀ g, blk zo' = some g → blk ao ≠ some g := by
  rcases hz with rfl | ⟨x, rfl, hx⟩
  · exact h
  · intro g e f
    simp [blk] at e
    subst e
    have := ho.lt f
    omega

theorem put_low {w : World} {zo zo' : Option Addr} {B : Nat} (hB : B ≤ w.heap.size) (h : ∀ g, blk zo = some g → B ≤ g) (hz : zo' = zo ∨ ∃ g, zo' = some ⟨g, 0, none⟩ ∧ w.heap.size ≤ g) : ∀ g, blk zo' = some g → B ≤ g := by
  rcases hz with rfl | ⟨x, rfl, hx⟩
  · exact h
  · intro g e
    simp [blk] at e
    omega

/-- What is put leaves the input alone. -/
theorem in_put {w w' : World} {b d c k zc : Nat} {ao zo : Option Addr} {L M : List UInt8} {r : Int} (h : InAt w b ao c L k) (ho : OutAt w d zo zc M r) (hk : Kept (fun j => j = d ∨ blk zo = some j) w w') (hs : ∀ g, blk zo = some g → blk ao ≠ some g) : InAt w' b ao c L k := by
  refine h.keptS hk ?_ ?_
  · rintro (rfl | e)
    · have h1 := h.blk
      rw [ho.blk] at h1
      simp at h1
    · have := ho.own.apart h.blk (by decide)
      exact this e
  · intro g hg
    rintro (rfl | e)
    · exact h.own.apart ho.blk (by decide) hg
    · exact hs g e hg

theorem len_take {L : List UInt8} {p : Nat} (h : p ≤ L.length) : (L.take p).length = p := by simp; omega
theorem conv_bytes {w : World} {ao : Option Addr} {M : List UInt8} (h : Bytes w ao M) (c m : Nat) (hm : M.length = m) : (convert 22 9 (.slice ao m c)).run Try.prog w = .ok (.string (str M)) w := by
  subst hm
  exact conv h 22 9 c Try.underlying22 Try.underlying5 Try.underlying9
theorem drew_grown (w : World) : w.grownBy w.drew none := grownBy_drew (grownBy_refl w none)
end Go.Proofs.Yteollicbaahmpaa.Mem
