/- A pair that came in: how it is opened and shut. -/
import Derived.Test.YtcoiddmgcoeocaaOpens
namespace Go.Proofs.Ytcoiddmgcoeocaa.Tr
open Go.ChangeShapes Go.WideShapes Go.ChangeAt Go.RowKit Go.Joins Go.Proofs.Ytcoiddmgcoeocaa.El Go.Proofs.Ytcoiddmgcoeocaa.Rn

theorem pair_open {H : Type} {enc : TypeId × Value → H} {w : World} {r : Reach} {b0 base : Nat} {spare : Nat → Bool} {held : Bool} {v : Value} {d : DataW H} {p : List MemPlace} (hv : Value.okWide Try.prog w r b0 30 v) (h : DataW.Trod enc Try.prog w base spare held 30 v d p) :
    ∃ f a : Int, v = .agg #[.int .i64 f, .int .i32 a] ∧ d = .agg [.lit (.int .i64 f), .lit (.int .i32 a)] ∧ p = [] ∧ (Lit.int .i64 f).wf = true ∧ (Lit.int .i32 a).wf = true := by
  obtain ⟨c0, c1, y0, y1, m, rfl, rfl, rfl, hy0, hy1⟩ := open_agg2 Try.underlying30 (by kernel_rfl) cellsP hv h
  obtain ⟨a, e0, rfl, wa⟩ := DataW.trod_int Try.underlying3 hy0
  obtain ⟨c, e2, rfl, wc⟩ := DataW.trod_int Try.underlying21 hy1
  simp at e0 e2
  subst e0 e2
  exact ⟨a, c, rfl, rfl, rfl, wa, wc⟩
theorem pair_shut {H : Type} {enc : TypeId × Value → H} {w : World} {base : Nat} {spare : Nat → Bool} {held : Bool} {f a : Int} (wa : (Lit.int .i64 f).wf = true) (wc : (Lit.int .i32 a).wf = true) :
    DataW.Trod enc Try.prog w base spare held 30 (.agg #[.int .i64 f, .int .i32 a]) (.agg [.lit (.int .i64 f), .lit (.int .i32 a)]) [] :=
  shut_agg2 (y0 := (.lit (.int .i64 f), [])) (y1 := (.lit (.int .i32 a), [])) Try.underlying30 (by kernel_rfl) cellsP
    ⟨1, by simp [DataW.trod, Try.underlying3, wa]⟩ ⟨1, by simp [DataW.trod, Try.underlying21, wc]⟩
end Go.Proofs.Ytcoiddmgcoeocaa.Tr
