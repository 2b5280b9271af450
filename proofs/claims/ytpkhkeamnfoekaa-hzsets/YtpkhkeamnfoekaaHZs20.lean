/- HzSets over the program's contracts. -/
import Derived.Test.YtpkhkeamnfoekaaHQs20
import Derived.Test.YtpkhkeamnfoekaaArgs
import Derived.Below
import Derived.Lib.SmallJoins
namespace Go.Proofs.Ytpkhkeamnfoekaa.C20
open Go.Joins Go.ChangeShapes Go.WideShapes Go.ChangeAt Go.RowKit Go.Proofs.Ytpkhkeamnfoekaa.Mem Go.Proofs.Ytpkhkeamnfoekaa.Sp
set_option linter.unusedVariables false
set_option linter.unusedSimpArgs false

theorem cells_state : Try.prog.cellsOf 24 = 4 := by kernel_rfl
theorem state_open {H : Type} {enc : TypeId × Value → H} {w : World} {r : Reach} {b0 base : Nat} {spare : Nat → Bool} {held : Bool} {v : Value} {d : DataW H} {p : List MemPlace} (hv : Value.okWide Try.prog w r b0 24 v) (h : DataW.Trod enc Try.prog w base spare held 24 v d p) :
    ∃ md bi ac he : Int, v = .agg #[.int .i64 md, .int .i64 bi, .int .u32 ac, .int .i32 he] ∧ d = .agg [.lit (.int .i64 md), .lit (.int .i64 bi), .lit (.int .u32 ac), .lit (.int .i32 he)] ∧ p = [] ∧
      (Lit.int .i64 md).wf = true ∧ (Lit.int .i64 bi).wf = true ∧ (Lit.int .u32 ac).wf = true ∧ (Lit.int .i32 he).wf = true := by
  obtain ⟨c0, c1, c2, c3, y0, y1, y2, y3, m, rfl, rfl, rfl, hy0, hy1, hy2, hy3⟩ := open_agg4 Try.underlying24 (by kernel_rfl) cells_state hv h
  obtain ⟨a, e0, rfl, wa⟩ := DataW.trod_int Try.underlying3 hy0
  obtain ⟨b, e1, rfl, wb⟩ := DataW.trod_int Try.underlying3 hy1
  obtain ⟨c, e2, rfl, wc⟩ := DataW.trod_int Try.underlying22 hy2
  obtain ⟨d, e3, rfl, wd⟩ := DataW.trod_int Try.underlying21 hy3
  simp at e0 e1 e2 e3
  subst e0 e1 e2 e3
  exact ⟨a, b, c, d, rfl, rfl, rfl, wa, wb, wc, wd⟩
theorem state_shut {H : Type} {enc : TypeId × Value → H} {w : World} {base : Nat} {spare : Nat → Bool} {held : Bool} {md bi ac he : Int} (wa : (Lit.int .i64 md).wf = true) (wb : (Lit.int .i64 bi).wf = true) (wc : (Lit.int .u32 ac).wf = true) (wd : (Lit.int .i32 he).wf = true) :
    DataW.Trod enc Try.prog w base spare held 24 (.agg #[.int .i64 md, .int .i64 bi, .int .u32 ac, .int .i32 he]) (.agg [.lit (.int .i64 md), .lit (.int .i64 bi), .lit (.int .u32 ac), .lit (.int .i32 he)]) [] :=
  shut_agg4 (y0 := (.lit (.int .i64 md), [])) (y1 := (.lit (.int .i64 bi), [])) (y2 := (.lit (.int .u32 ac), [])) (y3 := (.lit (.int .i32 he), [])) Try.underlying24 (by kernel_rfl) cells_state
    ⟨1, by simp [DataW.trod, Try.underlying3, wa]⟩ ⟨1, by simp [DataW.trod, Try.underlying3, wb]⟩ ⟨1, by simp [DataW.trod, Try.underlying22, wc]⟩ ⟨1, by simp [DataW.trod, Try.underlying21, wd]⟩
theorem below_g {w w' : World} (h : w.grownBy w' none) : Below w.heap.size w w' := ⟨h.os, h.tape, h.output, h.size, fun k hk => h.block k hk (by simp)⟩
theorem i32_wf {n : Int} (h : (Lit.int .i32 n).wf = true) : I32 n := by
  rw [Lit.wf_int_iff] at h
  exact h
theorem sets_law (md bi ac he u : Int) (w : World) (hu : (Lit.int .i32 u).wf = true) : Calls Try.prog 3 #[stV md bi ac he, .int .i32 u] w fun e w' => e = .returned (.bool true) ∧ Below w.heap.size w w' :=
  (sets_walk conS md bi ac he u (i32_wf hu) w trivial).mono (fun e w' h => ⟨h.1, below_g h.2⟩)
end Go.Proofs.Ytpkhkeamnfoekaa.C20
