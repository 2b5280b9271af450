/- What a round does to both ends: plain facts on worlds. -/
import Derived.Test.YteollicbaahmpaaWorks
import Derived.Test.YteollicbaahmpaaArgs
import Derived.Deep.OwnRows
namespace Go.Proofs.Yteollicbaahmpaa.Mem
open Go.ChangeShapes Go.WideShapes Go.ChangeAt Go.RowKit
set_option linter.unusedVariables false

theorem out_more {w : World} {d : Nat} {zo : Option Addr} {zc : Nat} {L M : List UInt8} {p n : Nat} {r : Int} (h : OutAt w d zo zc (L.take p ++ (str M).data.toList) (r - p - (str M).size)) (hM : (L.drop p).take n = M) :
    OutAt w d zo zc (L.take (p + M.length)) (r - ((p + M.length : Nat) : Int)) := by
  subst hM
  rw [str_data, take_more, str_size] at h
  have e : r - (p : Int) - (((L.drop p).take n).length : Int) = r - ((p + ((L.drop p).take n).length : Nat) : Int) := by omega
  rw [e] at h
  exact h

/-- In's row and Out's row, one written, the other not. -/
theorem put_sep {w : World} {ao zo zo' : Option Addr} {c : Nat} {L : List UInt8} (ho : Own w ao c L) (h : ∀ g, blk zo = some g → blk ao ≠ some g) (hz : zo' = zo ∨ ∃ g, zo' = some ⟨g, 0, none⟩ ∧ w.heap.size ≤ g) : ∀ g, blk zo' = some g → blk ao ≠ some g := by
  rcases hz with rfl | ⟨x, rfl, hx⟩
  · exact h
  · intro g e f
    simp [blk] at e
    subst e
    have := ho.lt f
    omega

theorem put_low {w : World} {zo zo' : Option Addr} {B : Nat} (hB : B ≤ w.heap.size) (h : ∀ g, blk zo = some g → B ≤ g) (hz : zo' = zo ∨ ∃ g, zo' = some ⟨g, 0, none⟩ ∧ w.heap.size ≤ g) : ∀ g, blk zo' = some g → B ≤ g := by
  rcases hz with rfl | ⟨x, rfl, hx⟩
  · exact h
  · intro g e
    simp [blk] at e
    omega

/-- What is put leaves the input alone. -/
theorem in_put {w w' : World} {b d c k zc : Nat} {ao zo : Option Addr} {L M : List UInt8} {r : Int} (h : InAt w b ao c L k) (ho : OutAt w d zo zc M r) (hk : Kept (fun j => j = d ∨ blk zo = some j) w w') (hs : ∀ g, blk zo = some g → blk ao ≠ some g) : InAt w' b ao c L k := by
  refine h.keptS hk ?_ ?_
  · rintro (rfl | e)
    · have h1 := h.blk
      rw [ho.blk] at h1
      simp at h1
    · have := ho.own.apart h.blk (by decide)
      exact this e
  · intro g hg
    rintro (rfl | e)
    · exact h.own.apart ho.blk (by decide) hg
    · exact hs g e hg

theorem len_take {L : List UInt8} {p : Nat} (h : p ≤ L.length) : (L.take p).length = p := by simp; omega
theorem conv_bytes {w : World} {ao : Option Addr} {M : List UInt8} (h : Bytes w ao M) (c m : Nat) (hm : M.length = m) : (convert 22 9 (.slice ao m c)).run Try.prog w = .ok (.string (str M)) w := by
  subst hm
  exact conv h 22 9 c Try.underlying22 Try.underlying5 Try.underlying9
/-- string(make([]byte, n)): n zero bytes. -/
theorem make_zero (n : Nat) (h : n ≤ 1000) (W : World) :
    (Instr.makeSlice 22 (.int .i64 (n : Int)) (.int .i64 (n : Int))).run Try.prog W = .ok (.slice (some ⟨W.heap.size, 0, none⟩) n n) (W.alloc (.cells (madeCells #[.int .u8 0] n) 5)) :=
  Go.run_make_row' 22 5 (.int .u8 0) 1 Try.underlying22 info5 rfl .i64 .i64 n (by omega) (by omega) W
theorem conv_zero (n : Nat) (W : World) :
    (convert 22 9 (.slice (some ⟨W.heap.size, 0, none⟩) n n)).run Try.prog (W.alloc (.cells (madeCells #[.int .u8 0] n) 5)) = .ok (.string (str (List.replicate n 0))) (W.alloc (.cells (madeCells #[.int .u8 0] n) 5)) := by
  refine conv_bytes (M := List.replicate n 0) (.inr ⟨_, rfl, fun j hj => ?_⟩) n n (by simp)
  have hj' : j < n := by simpa using hj
  rw [addr_add, Nat.zero_add, World.cell?_alloc_mark]
  simp [madeCells, hj', Nat.mod_one]
theorem str_append (A C : List UInt8) : str A ++ str C = str (A ++ C) := by
  apply ByteArray.ext
  simp [str, ByteArray.data_append]
theorem peek_at (w : World) (b : Nat) (ao : Option Addr) (c : Nat) (L : List UInt8) (k : Nat) (n : Int) (j : Nat) (hj : n.toNat = j) (h : InAt w b ao c L k) (M : List UInt8) (hM : (L.drop k).take j = M) :
    Calls Try.prog 8 #[.pointer (some ⟨b, 0, none⟩), .int .i64 n] w fun e w' => ∃ ao' c', e = .returned (.slice ao' M.length c') ∧ Own w' ao' c' M ∧ w.grownBy w' none ∧ (∀ g, blk ao' = some g → w.heap.size ≤ g) := by
  subst hj
  exact peek_is w b ao c L k n h M hM M.length rfl
theorem skip_is (w : World) (b : Nat) (ao : Option Addr) (c : Nat) (L : List UInt8) (k : Nat) (n : Int) (m : Nat) (hm : n = (m : Int)) (h : InAt w b ao c L k) (hn : k + m ≤ L.length) :
    Calls Try.prog 10 #[.pointer (some ⟨b, 0, none⟩), .int .i64 n] w fun e w' => e = .returned (.bool true) ∧ InAt w' b ao c L (k + m) ∧ w.grownBy w' (some b) := by
  subst hm
  exact skip_yes w b ao c L k m h hn
theorem out_is {w : World} {d : Nat} {zo : Option Addr} {zc : Nat} {L : List UInt8} {s : ByteArray} {r : Int} (h : OutAt w d zo zc (L ++ s.data.toList) (r - s.size)) (q : Int) (hq : r - s.size = q) (n : Nat) (hn : L.length + s.size = n) :
    ∃ X : List UInt8, Hid (X.length = n) ∧ OutAt w d zo zc X q := by
  subst hq
  refine ⟨_, ?_, h⟩
  show (L ++ s.data.toList).length = n
  rw [List.length_append, Array.length_toList]
  exact hn
theorem ret_bool {a b : Bool} (h : a = b) : Ending.returned (.bool a) = .returned (.bool b) := by rw [h]
theorem drew_grown (w : World) : w.grownBy w.drew none := grownBy_drew (grownBy_refl w none)
end Go.Proofs.Yteollicbaahmpaa.Mem
