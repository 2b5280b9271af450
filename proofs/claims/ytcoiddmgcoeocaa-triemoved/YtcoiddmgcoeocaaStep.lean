/- append of pairs and of ranges as a step of a region that draws its order. -/
import Derived.Test.YtcoiddmgcoeocaaApp
import Derived.Deep.RegionHeld3
namespace Go.Proofs.Ytcoiddmgcoeocaa.Rn
open Go.ChangeShapes Go.WideShapes Go.ChangeAt Go.RowKit Go.Proofs.Ytcoiddmgcoeocaa.Mem Go.Proofs.Ytcoiddmgcoeocaa.Ucs Go.Proofs.Ytcoiddmgcoeocaa.El
set_option linter.unusedVariables false
set_option linter.unusedSimpArgs false

theorem step_pair (w : World) {ops : Array Oper} {o : Oper} {a : Act} {K : Act → World → Prop} {Q : Exit → Act → World → Prop} {F : Prop} (hgd : o.guard = none) (s x : Operand)
    (ho : o.op = .call { callee := .builtin .append, args := #[s, x], argTypes := #[22, 22] })
    (ao : Option Addr) (cap : Nat) (L : List Pr) (hs : a.eval s = .slice ao L.length cap) (h : PE.Own w ao cap L) (xv : Value) (hx : a.eval x = xv) (M : List Pr) (hsrc : Src Try.prog 2 22 xv M.length (PE.cells M) w) (hb : L.length + M.length ≤ 8796093022208)
    (R : List Pr) (hR : L ++ M = R)
    (hK : ∀ ao' cap' w', PE.Own w' ao' cap' R → w.grownBy w' (blk ao) → (ao' = ao ∨ ao' = some ⟨w.heap.size, 0, none⟩) → K (a.put o.dst (.slice ao' R.length cap')) w') :
    if Region.wanted o (yielded ops a.tmps) = true then Oper.wp Try.prog o a w K Q else F := by
  have hw : Region.wanted o (yielded ops a.tmps) = true := by simp [Region.wanted, hgd]
  rw [if_pos hw]
  obtain ⟨i0, hi, hz0, hz1, hz2⟩ := info_parts infoP
  exact wp_append_any (E := PE) w s x _ _ ho i0 _ 16 Try.underlying22 hi hz0 hz1 hz2 zP ao cap L hs h xv hx M hsrc (by omega) (by simp only [maxLen]; omega) R hR hK
theorem step_range (w : World) {ops : Array Oper} {o : Oper} {a : Act} {K : Act → World → Prop} {Q : Exit → Act → World → Prop} {F : Prop} (hgd : o.guard = none) (s x : Operand)
    (ho : o.op = .call { callee := .builtin .append, args := #[s, x], argTypes := #[43, 43] })
    (ao : Option Addr) (cap : Nat) (L : List Rg) (hs : a.eval s = .slice ao L.length cap) (h : RE.Own w ao cap L) (xv : Value) (hx : a.eval x = xv) (M : List Rg) (hsrc : Src Try.prog 3 43 xv M.length (RE.cells M) w) (hb : L.length + M.length ≤ 5864062014805)
    (R : List Rg) (hR : L ++ M = R)
    (hK : ∀ ao' cap' w', RE.Own w' ao' cap' R → w.grownBy w' (blk ao) → (ao' = ao ∨ ao' = some ⟨w.heap.size, 0, none⟩) → K (a.put o.dst (.slice ao' R.length cap')) w') :
    if Region.wanted o (yielded ops a.tmps) = true then Oper.wp Try.prog o a w K Q else F := by
  have hw : Region.wanted o (yielded ops a.tmps) = true := by simp [Region.wanted, hgd]
  rw [if_pos hw]
  obtain ⟨i0, hi, hz0, hz1, hz2⟩ := info_parts infoR
  exact wp_append_any (E := RE) w s x _ _ ho i0 _ 24 Try.underlying43 hi hz0 hz1 hz2 zR ao cap L hs h xv hx M hsrc (by omega) (by simp only [maxLen]; omega) R hR hK
end Go.Proofs.Ytcoiddmgcoeocaa.Rn
