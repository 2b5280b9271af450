/- Texts one behind the other, of layer 13; where VietBack's second loop stands: plain facts. -/
import Derived.Test.YtfehmbicolllkaaWP13
import Derived.Test.YtfehmbicolllkaaRu
namespace Go.Proofs.Ytfehmbicolllkaa.C13
open Go.RowKit Go.Proofs.Ytfehmbicolllkaa.Mem Go.Proofs.Ytfehmbicolllkaa.Cb Go.Proofs.Ytfehmbicolllkaa.El Go.Proofs.Ytfehmbicolllkaa.Ru
set_option linter.unusedVariables false

theorem str_app (A B : List UInt8) : str A ++ str B = str (A ++ B) := by
  apply ByteArray.ext
  apply Array.ext'
  simp [str]
theorem txt_snoc (W : List Int) (z : Int) : str (txt W) ++ str (byt z) = str (txt (W ++ [z])) := by
  rw [str_app, txt, txt, List.flatMap_append, List.flatMap_cons, List.flatMap_nil, List.append_nil]
theorem str_cut {T : List UInt8} {i : Nat} (hi : i < T.length) : (str T).extract i (i + 1) = str [T[i]] := by
  apply ByteArray.ext
  apply Array.ext'
  rw [ByteArray.data_extract]
  simp only [str, List.extract_toArray]
  show T.extract i (i + 1) = [T[i]]
  unfold List.extract
  rw [List.drop_eq_getElem_cons hi, show i + 1 - i = 1 by omega]
  rfl
theorem take_snoc {T : List UInt8} {i : Nat} (hi : i < T.length) : T.take (i + 1) = T.take i ++ [T[i]] := by
  rw [List.take_add_one, List.getElem?_eq_getElem hi]
  rfl
/-- The rows that were written and are read, and the state. -/
structure B2 (w : World) (ro : Option Addr) (rc : Nat) (W : List Int) (SB : Nat) (r2 : Option Addr) (c2 : Nat) (Gt : List Int) (he : Int) (wx : World) : Prop where
  got : RuE.Own wx r2 c2 Gt
  want : RuE.Own wx ro rc W
  st : CA wx SB 29 (sC 0 0 0 he)
  g : w.grownBy wx none
  old : ∀ g, blk ro = some g → g < SB
  new : ∀ g, blk r2 = some g → SB < g
  sb : w.heap.size ≤ SB
section
variable {w : World} {ro : Option Addr} {rc : Nat} {W : List Int} {SB : Nat} {r2 : Option Addr} {c2 : Nat} {Gt : List Int} {he : Int} {wx : World}
theorem B2.next {wy : World} (h : B2 w ro rc W SB r2 c2 Gt he wx) (hg : wx.grownBy wy none) : B2 w ro rc W SB r2 c2 Gt he wy :=
  ⟨h.got.kept0 hg, h.want.kept0 hg, h.st.kept0 hg, grownBy_trans h.g hg, h.old, h.new, h.sb⟩
theorem B2.apart (h : B2 w ro rc W SB r2 c2 Gt he wx) : blk ro = none ∨ blk ro ≠ blk r2 := by
  cases hb : blk ro with
  | none => exact .inl rfl
  | some g => exact .inr (fun e => by have q1 := h.old g hb; have q2 := h.new g e.symm; omega)
theorem B2.app (h : B2 w ro rc W SB r2 c2 Gt he wx) {o : Obj} {w' : World} {r3 : Option Addr} {c3 : Nat} {R : List Int} (ho : RuE.Own w' r3 c3 R) (hg : (wx.alloc o).grownBy w' (blk r2)) (hat : r3 = r2 ∨ r3 = some ⟨(wx.alloc o).heap.size, 0, none⟩) : B2 w ro rc W SB r3 c3 R he w' := by
  have h1 := h.next (World.grownBy_alloc wx o none)
  refine ⟨ho, h1.want.kept hg h.apart, h1.st.kept hg (fun e => ?_), grownBy_new h1.g hg (fun k hk => ?_), h.old, fun g e => ?_, h.sb⟩
  · have := h.new SB e.symm
    omega
  · have := h.new k hk
    have := h.sb
    omega
  · rcases hat with rfl | rfl
    · exact h.new g e
    · have e1 := Option.some.inj e
      have e2 := h1.st.lt
      simp only at e1
      omega
theorem B2.put (h : B2 w ro rc W SB r2 c2 Gt he wx) {w' : World} {h' : Int} (hs : CA w' SB 29 (sC 0 0 0 h')) (hg : wx.grownBy w' (some SB)) : B2 w ro rc W SB r2 c2 Gt h' w' := by
  refine ⟨h.got.kept hg ?_, h.want.kept hg ?_, hs, grownBy_new h.g hg (fun k hk => by have h5 := Option.some.inj hk; have := h.sb; omega), h.old, h.new, h.sb⟩
  · exact .inr (fun e => by have := h.new SB e; omega)
  · exact .inr (fun e => by have := h.old SB e; omega)
theorem own_ne {w : World} {b T : Nat} {cs : Array Value} {r : Option Addr} {c : Nat} {Z : List Int} (h : CA w b T cs) (k : RuE.Own w r c Z) (hT : T ≠ 21) : some b ≠ blk r := by
  intro e
  rcases k with ⟨rfl, _, _⟩ | ⟨g, cur, rfl, hg, _⟩
  · cases e
  · have e1 : b = g := Option.some.inj e
    subst e1
    rw [CA, hg] at h
    injection h with h
    injection h with _ h _
    exact hT h.symm
theorem B2.keepG (h : B2 w ro rc W SB r2 c2 Gt he wx) {GB : Nat} {cs : Array Value} (gb : CA wx GB 34 cs) {o : Obj} {w' : World} (hg : (wx.alloc o).grownBy w' (blk r2)) : CA w' GB 34 cs := by
  have hga := World.grownBy_alloc wx o none
  exact (gb.kept0 hga).kept hg (own_ne (gb.kept0 hga) (h.got.kept0 hga) (by decide))
end
end Go.Proofs.Ytfehmbicolllkaa.C13
