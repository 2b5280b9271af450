/- append of runes as a step of a region that draws its order. -/
import Derived.Test.YtmaegmbpfilmhaaRu
import Derived.Deep.RegionHeld3
namespace Go.Proofs.Ytmaegmbpfilmhaa.Ru
open Go.ChangeShapes Go.WideShapes Go.ChangeAt Go.RowKit Go.Proofs.Ytmaegmbpfilmhaa.Mem Go.Proofs.Ytmaegmbpfilmhaa.El
set_option linter.unusedVariables false
set_option linter.unusedSimpArgs false

theorem step_rune (w : World) {ops : Array Oper} {o : Oper} {a : Act} {K : Act → World → Prop} {Q : Exit → Act → World → Prop} {F : Prop} (hgd : o.guard = none) (s x : Operand)
    (ho : o.op = .call { callee := .builtin .append, args := #[s, x], argTypes := #[27, 27] })
    (ao : Option Addr) (cap : Nat) (L : List Int) (hs : a.eval s = .slice ao L.length cap) (h : RuE.Own w ao cap L) (xv : Value) (hx : a.eval x = xv) (M : List Int) (hsrc : Src Try.prog 1 27 xv M.length (RuE.cells M) w) (hb : L.length + M.length ≤ 35184372088832)
    (R : List Int) (hR : L ++ M = R)
    (hK : ∀ ao' cap' w', RuE.Own w' ao' cap' R → w.grownBy w' (blk ao) → (ao' = ao ∨ ao' = some ⟨w.heap.size, 0, none⟩) → K (a.put o.dst (.slice ao' R.length cap')) w') :
    if Region.wanted o (yielded ops a.tmps) = true then Oper.wp Try.prog o a w K Q else F := by
  have hw : Region.wanted o (yielded ops a.tmps) = true := by simp [Region.wanted, hgd]
  rw [if_pos hw]
  obtain ⟨i0, hi, hz0, hz1, hz2⟩ := iparts infoRu
  exact wp_append_any (E := RuE) w s x _ _ ho i0 _ 4 Try.underlying27 hi hz0 hz1 hz2 (by rfl) ao cap L hs h xv hx M hsrc (by omega) (by simp only [maxLen]; omega) R hR hK
theorem own_drew {w : World} {ao : Option Addr} {cap : Nat} {L : List Int} (h : RuE.Own w ao cap L) : RuE.Own w.drew ao cap L := h.kept0 ⟨rfl, rfl, rfl, Nat.le_refl _, fun _ _ _ => rfl⟩
theorem src_new (w : World) (z : Int) : Src Try.prog 1 27 (.slice (some ⟨w.heap.size, 0, none⟩) 1 1) [z].length (RuE.cells [z]) ((w.alloc (.cells #[.int .i32 z] 21)).drew) :=
  have h1 : RuE.Rd (w.alloc (.cells #[.int .i32 z] 21)).drew (some ⟨w.heap.size, 0, none⟩) [z] := Elem.Rd.kept0 (rd_new w #[.int .i32 z] 21 [z] rfl) ⟨rfl, rfl, rfl, Nat.le_refl _, fun _ _ _ => rfl⟩
  El.src_of (E := RuE) h1 27 1 Try.underlying27
end Go.Proofs.Ytmaegmbpfilmhaa.Ru
