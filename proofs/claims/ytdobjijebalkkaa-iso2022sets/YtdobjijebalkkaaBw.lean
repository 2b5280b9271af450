/- What a law holds in memory while scalars are written and read again with a state: the row of scalars, the state's variable. -/
import Derived.Test.YtdobjijebalkkaaGs
import Derived.Test.YtdobjijebalkkaaRu
namespace Go.Proofs.Ytdobjijebalkkaa.Sp
open Go.RowKit Go.Proofs.Ytdobjijebalkkaa.Mem Go.Proofs.Ytdobjijebalkkaa.Cb Go.Proofs.Ytdobjijebalkkaa.El Go.Proofs.Ytdobjijebalkkaa.Ru
set_option linter.unusedVariables false

theorem str_app (A B : List UInt8) : str A ++ str B = str (A ++ B) := by
  apply ByteArray.ext
  apply Array.ext'
  simp [str]
theorem str_drop (A B : List UInt8) (n : Nat) (h : A.length = n) : (str (A ++ B)).extract n (str (A ++ B)).size = str B := by
  apply ByteArray.ext
  apply Array.ext'
  rw [ByteArray.data_extract, str_size]
  simp only [str, List.extract_toArray]
  show (A ++ B).extract n (A ++ B).length = B
  unfold List.extract
  subst h
  rw [List.drop_left, List.take_of_length_le (by simp)]
def szOf (v : Value) : Nat := match v with | .string s => s.size | _ => 0
theorem byte_kept {w wx : World} {B O : Nat} {v : Value} (h : w.cell? ⟨B, O, none⟩ = some v) (hlt : B < w.heap.size) (hg : w.grownBy wx none) : wx.cell? ⟨B, O, none⟩ = some v := by
  rw [(gcell hg).1 _ _ hlt]; exact h
/-- The row of scalars that were written, the state's variable. -/
structure BW (w : World) (SB : Nat) (ro : Option Addr) (rc : Nat) (W : List Int) (m : Nat) (wx : World) : Prop where
  want : RuE.Own wx ro rc W
  st : CA wx SB 24 (sC (m : Int) 0 0 0)
  g : w.grownBy wx none
  new : ∀ g, blk ro = some g → SB < g
  sb : w.heap.size ≤ SB
section
variable {w : World} {SB : Nat} {ro : Option Addr} {rc : Nat} {W : List Int} {m : Nat} {wx : World}
theorem BW.next {wy : World} (h : BW w SB ro rc W m wx) (hg : wx.grownBy wy none) : BW w SB ro rc W m wy :=
  ⟨h.want.kept0 hg, h.st.kept0 hg, grownBy_trans h.g hg, h.new, h.sb⟩
theorem BW.app (h : BW w SB ro rc W m wx) {o : Obj} {w' : World} {r3 : Option Addr} {c3 : Nat} {R : List Int} (ho : RuE.Own w' r3 c3 R) (hg : (wx.alloc o).grownBy w' (blk ro)) (hat : r3 = ro ∨ r3 = some ⟨(wx.alloc o).heap.size, 0, none⟩) : BW w SB r3 c3 R m w' := by
  have h1 := h.next (World.grownBy_alloc wx o none)
  refine ⟨ho, h1.st.kept hg (fun e => ?_), grownBy_new h1.g hg (fun k hk => ?_), fun g e => ?_, h.sb⟩
  · have := h.new SB e.symm
    omega
  · have := h.new k hk
    have := h.sb
    omega
  · rcases hat with rfl | rfl
    · exact h.new g e
    · have e1 := Option.some.inj e
      have e2 := h1.st.lt
      simp only at e1
      omega
theorem BW.put (h : BW w SB ro rc W m wx) {w' : World} {m' : Nat} (hs : CA w' SB 24 (sC (m' : Int) 0 0 0)) (hg : wx.grownBy w' (some SB)) : BW w SB ro rc W m' w' := by
  refine ⟨h.want.kept hg ?_, hs, grownBy_new h.g hg (fun k hk => by have h5 := Option.some.inj hk; have := h.sb; omega), h.new, h.sb⟩
  exact .inr (fun e => by have := h.new SB e; omega)
end
theorem drop_cons {W : List Int} {n : Nat} {u : Int} {R : List Int} (h : W.drop n = u :: R) : ∃ hn : n < W.length, W[n] = u ∧ W.drop (n + 1) = R := by
  have hn : n < W.length := by
    refine Decidable.byContradiction (fun h2 => ?_)
    rw [List.drop_eq_nil_of_le (by omega)] at h
    cases h
  refine ⟨hn, ?_, ?_⟩
  · rw [List.drop_eq_getElem_cons hn] at h
    injection h
  · rw [List.drop_eq_getElem_cons hn] at h
    injection h
theorem drop_nil {W : List Int} {n : Nat} (hl : n ≤ W.length) (h : W.drop n = []) : n = W.length := by
  have := congrArg List.length h
  simp at this
  omega
end Go.Proofs.Ytdobjijebalkkaa.Sp
