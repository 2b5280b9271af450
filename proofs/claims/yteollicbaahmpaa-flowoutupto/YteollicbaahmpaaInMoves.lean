/- What a round does to an input and to the document's: plain facts, and the contracts as FlowIn wants them. -/
import Derived.Test.YteollicbaahmpaaMoves
import Derived.Test.YteollicbaahmpaaRef
import Derived.Test.YteollicbaahmpaaRegion
import Derived.Deep.DeepCutAuto
import Derived.Deep.DrawnRows
namespace Go.Proofs.Yteollicbaahmpaa.Mem
open Go.ChangeShapes Go.WideShapes Go.ChangeAt Go.RowKit
set_option linter.unusedVariables false

theorem skip_to (w : World) (b : Nat) (ao : Option Addr) (c : Nat) (L : List UInt8) (k : Nat) (n : Int) (m q : Nat) (hm : n = (m : Int)) (hq : k + m = q) (h : InAt w b ao c L k) (hn : q ≤ L.length) :
    Calls Try.prog 10 #[.pointer (some ⟨b, 0, none⟩), .int .i64 n] w fun e w' => e = .returned (.bool true) ∧ InAt w' b ao c L q ∧ w.grownBy w' (some b) := by
  subst hm
  subst hq
  exact skip_yes w b ao c L k m h hn
theorem refSkip_to (w : World) (b g : Nat) (ao : Option Addr) (c : Nat) (M : List UInt8) (k : Nat) (n : Int) (m q : Nat) (D : List UInt8) (hm : n = (m : Int)) (hq : k + m = q) (hD : M.drop m = D) (h : RefIn w b g ao c M k) (hn : m ≤ M.length) :
    Calls Try.prog 11 #[.pointer (some ⟨b, 0, none⟩), .int .i64 n] w fun e w' => ∃ ao' c', e = .returned (.bool true) ∧ RefIn w' b g ao' c' D q ∧ w.grownBy w' (some b) := by
  subst hm
  subst hq
  subst hD
  exact refSkip_yes w b g ao c M k m h hn
theorem refPeek_at (w : World) (b g : Nat) (ao : Option Addr) (c : Nat) (M : List UInt8) (k : Nat) (n : Int) (h : RefIn w b g ao c M k) (X : List UInt8) (hX : M.take n.toNat = X) :
    Calls Try.prog 9 #[.pointer (some ⟨b, 0, none⟩), .int .i64 n] w fun e w' => ∃ ao' c', e = .returned (.slice ao' X.length c') ∧ Own w' ao' c' X ∧ w.grownBy w' none ∧ (∀ g, blk ao' = some g → w.heap.size ≤ g) := by
  subst hX
  exact refPeek_any w b g ao c M k n h

/-- A byte of an owned row is written. -/
theorem Own.put {w : World} {g cap : Nat} {L : List UInt8} (h : Own w (some ⟨g, 0, none⟩) cap L) (j : Nat) (hj : j < L.length) (v : Int) (h0 : 0 ≤ v) (h1 : v ≤ 255) :
    ∃ L' : List UInt8, L'.length = L.length ∧ Own (w.setCell ⟨g, j, none⟩ (.int .u8 v)) (some ⟨g, 0, none⟩) cap L' := by
  have e : ((UInt8.ofNat v.toNat).toNat : Int) = v := by rw [UInt8.toNat_ofNat']; omega
  have := h.set j hj (UInt8.ofNat v.toNat)
  rw [e] at this
  exact ⟨_, by simp, this⟩
theorem own_some {w : World} {ao : Option Addr} {cap : Nat} {L : List UInt8} (h : Own w ao cap L) (hp : 0 < L.length) : ∃ g, ao = some ⟨g, 0, none⟩ := by
  rcases h with ⟨_, _, rfl⟩ | ⟨g, cur, rfl, _⟩
  · simp at hp
  · exact ⟨g, rfl⟩

/-- The document's input as it is made. -/
theorem refIn_made {w : World} {g rc : Nat} {L : List UInt8} (h : Own w (some ⟨g, 0, none⟩) rc L) (hl : L.length ≤ 140737488355328) :
    RefIn (w.alloc (.cells #[.slice (some ⟨g, 0, none⟩) L.length rc, .int .i64 0] 28)) w.heap.size g (some ⟨g, 0, none⟩) rc L 0 := by
  have h' := h.alloc (.cells #[.slice (some ⟨g, 0, none⟩) L.length rc, .int .i64 0] 28)
  have hlt := h'.lt (g := g) rfl
  obtain ⟨cur, hcur⟩ : ∃ cur, (w.alloc (.cells #[.slice (some ⟨g, 0, none⟩) L.length rc, .int .i64 0] 28)).heap[g]? = some (.cells cur 5 (0, 0)) := by
    rcases h' with ⟨e, _⟩ | ⟨g', cur, e, hh, _⟩
    · cases e
    · cases e
      exact ⟨cur, hh⟩
  refine ⟨?_, h'.bytes, ?_, h.cap_le, h.cap_max, by omega, hlt, cur, (0, 0), hcur⟩
  · rw [heap_alloc_new]; rfl
  · intro x hx
    simp [blk] at hx
    exact hx.symm

/-- append([]byte{}, ..): a row of its own. -/
theorem fresh_of {w w1 : World} {oo : Option Addr} (hg : (w.alloc (.cells #[] 5)).grownBy w1 (blk (some ⟨w.heap.size, 0, none⟩))) (hat : oo = some ⟨w.heap.size, 0, none⟩ ∨ oo = some ⟨(w.alloc (.cells #[] 5)).heap.size, 0, none⟩) :
    w.grownBy w1 none ∧ ∃ go, oo = some ⟨go, 0, none⟩ ∧ w.heap.size ≤ go := by
  refine ⟨grownBy_new (World.grownBy_alloc w _ none) hg (by intro g e; simp [blk] at e; omega), ?_⟩
  rcases hat with rfl | rfl
  · exact ⟨_, rfl, Nat.le_refl _⟩
  · exact ⟨_, rfl, by simp⟩

/-- While a row that is newer is written, both stay. -/
theorem InAt.newer {w w' : World} {b : Nat} {ao : Option Addr} {c : Nat} {L : List UInt8} {k : Nat} {row : Option Nat} {B : Nat} (h : InAt w b ao c L k) (hg : w.grownBy w' row) (hb : b < B) (ha : ∀ g, Mem.blk ao = some g → g < B) (hr : ∀ g, row = some g → B ≤ g) : InAt w' b ao c L k := by
  refine h.keptS (Kept.of hg) ?_ ?_
  · intro e; have := hr b e.symm; omega
  · intro g hg' e; have := hr g e.symm; have := ha g hg'; omega
theorem RefIn.newer {w w' : World} {b g : Nat} {ao : Option Addr} {c : Nat} {M : List UInt8} {k : Nat} {row : Option Nat} {B : Nat} (h : RefIn w b g ao c M k) (hg : w.grownBy w' row) (hb : b < B) (ha : g < B) (hr : ∀ x, row = some x → B ≤ x) : RefIn w' b g ao c M k := by
  refine h.keptS (Kept.of hg) ?_ ?_
  · intro e; have := hr b e.symm; omega
  · intro e; have := hr g e.symm; omega
end Go.Proofs.Yteollicbaahmpaa.Mem
