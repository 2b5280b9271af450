/- The laws of layer 13 over the program's contracts; a state that came in: how it is opened and shut. -/
import Derived.Test.YtfehmbicolllkaaVH13
import Derived.Test.YtfehmbicolllkaaVX13
import Derived.Test.YtfehmbicolllkaaArgs
import Derived.Below
import Derived.Lib.SmallJoins
namespace Go.Proofs.Ytfehmbicolllkaa.C13
open Go.ChangeShapes Go.WideShapes Go.ChangeAt Go.RowKit Go.Proofs.Ytfehmbicolllkaa.Mem Go.Joins
set_option linter.unusedVariables false

theorem cells_state : Try.prog.cellsOf 29 = 4 := by kernel_rfl
theorem state_open {H : Type} {enc : TypeId × Value → H} {w : World} {r : Reach} {b0 base : Nat} {spare : Nat → Bool} {held : Bool} {v : Value} {d : DataW H} {p : List MemPlace} (hv : Value.okWide Try.prog w r b0 29 v) (h : DataW.Trod enc Try.prog w base spare held 29 v d p) :
    ∃ md bi ac he : Int, v = .agg #[.int .i64 md, .int .i64 bi, .int .u32 ac, .int .i32 he] ∧ d = .agg [.lit (.int .i64 md), .lit (.int .i64 bi), .lit (.int .u32 ac), .lit (.int .i32 he)] ∧ p = [] ∧
      (Lit.int .i64 md).wf = true ∧ (Lit.int .i64 bi).wf = true ∧ (Lit.int .u32 ac).wf = true ∧ (Lit.int .i32 he).wf = true := by
  obtain ⟨c0, c1, c2, c3, y0, y1, y2, y3, m, rfl, rfl, rfl, hy0, hy1, hy2, hy3⟩ := open_agg4 Try.underlying29 (by kernel_rfl) cells_state hv h
  obtain ⟨a, e0, rfl, wa⟩ := DataW.trod_int Try.underlying3 hy0
  obtain ⟨b, e1, rfl, wb⟩ := DataW.trod_int Try.underlying3 hy1
  obtain ⟨c, e2, rfl, wc⟩ := DataW.trod_int Try.underlying27 hy2
  obtain ⟨d, e3, rfl, wd⟩ := DataW.trod_int Try.underlying21 hy3
  simp at e0 e1 e2 e3
  subst e0 e1 e2 e3
  exact ⟨a, b, c, d, rfl, rfl, rfl, wa, wb, wc, wd⟩
theorem state_shut {H : Type} {enc : TypeId × Value → H} {w : World} {base : Nat} {spare : Nat → Bool} {held : Bool} {md bi ac he : Int} (wa : (Lit.int .i64 md).wf = true) (wb : (Lit.int .i64 bi).wf = true) (wc : (Lit.int .u32 ac).wf = true) (wd : (Lit.int .i32 he).wf = true) :
    DataW.Trod enc Try.prog w base spare held 29 (.agg #[.int .i64 md, .int .i64 bi, .int .u32 ac, .int .i32 he]) (.agg [.lit (.int .i64 md), .lit (.int .i64 bi), .lit (.int .u32 ac), .lit (.int .i32 he)]) [] :=
  shut_agg4 (y0 := (.lit (.int .i64 md), [])) (y1 := (.lit (.int .i64 bi), [])) (y2 := (.lit (.int .u32 ac), [])) (y3 := (.lit (.int .i32 he), [])) Try.underlying29 (by kernel_rfl) cells_state
    ⟨1, by simp [DataW.trod, Try.underlying3, wa]⟩ ⟨1, by simp [DataW.trod, Try.underlying3, wb]⟩ ⟨1, by simp [DataW.trod, Try.underlying27, wc]⟩ ⟨1, by simp [DataW.trod, Try.underlying21, wd]⟩
theorem below_g {w w' : World} (h : w.grownBy w' none) : Below w.heap.size w w' := ⟨h.os, h.tape, h.output, h.size, fun k hk => h.block k hk (by simp)⟩
theorem i32_wf {n : Int} (h : (Lit.int .i32 n).wf = true) : I32 n := by
  rw [Lit.wf_int_iff] at h
  exact h
theorem u8_wf {n : Int} (h : (Lit.int .u8 n).wf = true) : ∃ b : Nat, n = (b : Int) ∧ b < 256 := by
  rw [Lit.wf_int_iff] at h
  have h1 : 0 ≤ n ∧ n ≤ 255 := h
  exact ⟨n.toNat, by omega, by omega⟩
theorem makes_law (a b c : Int) (ha : (Lit.int .i32 a).wf = true) (hb : (Lit.int .i32 b).wf = true) (hc : (Lit.int .i32 c).wf = true) (w : World) : Calls Try.prog 3 #[.int .i32 a, .int .i32 b, .int .i32 c] w fun e w' => e = .returned (.bool true) ∧ Below w.heap.size w w' :=
  (makes_walk con a b c (i32_wf ha) (i32_wf hb) (i32_wf hc) w trivial).mono (fun e w' h => ⟨h.1, below_g h.2⟩)
theorem sets_law (a : Int) (ha : (Lit.int .i32 a).wf = true) (w : World) : Calls Try.prog 5 #[.int .i32 a] w fun e w' => e = .returned (.bool true) ∧ Below w.heap.size w w' :=
  (sets_walk con a (i32_wf ha) w trivial).mono (fun e w' h => ⟨h.1, below_g h.2⟩)
theorem gets_law (md bi ac he : Int) (ao : Option Addr) (cap : Nat) (L : List UInt8) (w : World) (hB : Bytes w ao L) (hLc : L.length ≤ cap) (hcm : cap ≤ 140737488351232) : Calls Try.prog 4 #[.agg #[.int .i64 md, .int .i64 bi, .int .u32 ac, .int .i32 he], .slice ao L.length cap] w fun e w' => e = .returned (.bool true) ∧ Below w.heap.size w w' :=
  (gets_walk con md bi ac he ao cap L w trivial hB hLc hcm).mono (fun e w' h => ⟨h.1, below_g h.2⟩)
end Go.Proofs.Ytfehmbicolllkaa.C13
