/- Operations whose guard says yes: append, by what it does; rows of a literal. -/
import Derived.Test.YtdobjijebalkkaaSp
import Derived.BigFrame
namespace Go.Proofs.Ytdobjijebalkkaa.Sp
open Go.ChangeShapes Go.WideShapes Go.ChangeAt Go.RowKit Go.Proofs.Ytdobjijebalkkaa.Mem Go.Proofs.Ytdobjijebalkkaa.Cb
set_option linter.unusedVariables false

theorem want_append {P : Program} (w : World) {ops : Array Oper} {rest : List Oper} {o : Oper} {a : Act} {Q : Exit → Act → World → Prop} (hw : Region.wanted o (yielded ops a.tmps) = true) (s x : Operand) (t tx : TypeId)
    (ho : o.op = .call { callee := .builtin .append, args := #[s, x], argTypes := #[t, tx] })
    (i : TypeInfo) (ht : P.underlying t = some (.slice 5)) (hi : P.info? 5 = some i) (hz : i.zero = some (.int .u8 0)) (hsize : i.size = 1) (hby : i.bytes = 1)
    (ao : Option Addr) (cap : Nat) (L : List UInt8) (hs : a.eval s = .slice ao L.length cap) (h : Own w ao cap L) (xv : Value) (hx : a.eval x = xv) (M : List UInt8) (hsrc : Src P 1 tx xv M.length (bcells M) w) (hb : L.length + M.length ≤ 140737488355328)
    (R : List UInt8) (hR : L ++ M = R)
    (hK : ∀ ao' cap' w', Own w' ao' cap' R → w.grownBy w' (blk ao) → (ao' = ao ∨ ao' = some ⟨w.heap.size, 0, none⟩) → wpList P ops Q rest (a.put o.dst (.slice ao' R.length cap')) w') : wpList P ops Q (o :: rest) a w :=
  BigFrame.wpList_want hw fun _ hk => wp_append_any w s x t tx ho i ht hi hz hsize hby ao cap L hs h xv hx M hsrc hb R hR fun ao' cap' w' h2 h3 h4 => hk _ _ (hK ao' cap' w' h2 h3 h4)
theorem own_one {b : Nat} (hb : b < 256) (w : World) : Own (w.alloc (.cells #[.int .u8 (b : Int)] 5)) (some ⟨w.heap.size, 0, none⟩) 1 [b8 b] :=
  .inr ⟨w.heap.size, _, rfl, heap_alloc_new w _, by simp, by simp [maxLen], rfl, by simp [bcells, b8_toNat hb]⟩
theorem str_at {L : List UInt8} {i : Nat} {c : UInt8} (h : L[i]? = some c) : (str L)[i]? = some c := by
  have hi : i < L.length := (List.getElem?_eq_some_iff.1 h).1
  have hs : i < (str L).size := by rw [str_size]; exact hi
  rw [getElem?_pos (str L) i hs]
  have e := (List.getElem?_eq_some_iff.1 h).2
  rw [← e]
  rfl
theorem index_of {L : List UInt8} {i : Nat} {c : UInt8} (h : L[i]? = some c) (w : World) : (Instr.index 9 (.string (str L)) (.int .i64 (i : Int))).run Try.prog w = .ok (.int .u8 (c.toNat : Int)) w := by
  have h2 := str_at h
  simp [Instr.index, run_underlying Try.underlying9, asIntOf, h2]
end Go.Proofs.Ytdobjijebalkkaa.Sp
