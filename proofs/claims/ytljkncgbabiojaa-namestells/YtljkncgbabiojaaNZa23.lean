/- The laws of layer 23 over the program's contracts (text NC23: con). -/
import Derived.Test.YtljkncgbabiojaaPC23
import Derived.Test.YtljkncgbabiojaaNY23
import Derived.Test.YtljkncgbabiojaaArgs
import Derived.Below
import Derived.OpenShut
import Derived.Lib.SmallJoins
import Derived.SizedLaws
namespace Go.Proofs.Ytljkncgbabiojaa.C23
open Go.ChangeShapes Go.WideShapes Go.ChangeAt Go.RowKit Go.Proofs.Ytljkncgbabiojaa.Mem Go.Proofs.Ytljkncgbabiojaa.El Go.Proofs.Ytljkncgbabiojaa.St Go.Proofs.Ytljkncgbabiojaa.Ri Go.Proofs.Ytljkncgbabiojaa.Sx Go.Proofs.Ytljkncgbabiojaa.Cb Go.Proofs.Ytljkncgbabiojaa.Ar
set_option linter.unusedVariables false
set_option linter.unusedSimpArgs false

theorem below_g {w w' : World} (h : w.grownBy w' none) : Below w.heap.size w w' := ⟨h.os, h.tape, h.output, h.size, fun k hk => h.block k hk (by simp)⟩
theorem wf64 {n : Int} (h : (Lit.int .i64 n).wf = true) : I64 n := by
  rw [Lit.wf_int_iff] at h
  exact h
theorem tells_law (a : Int) (ha : (Lit.int .i64 a).wf = true) (w : World) : Calls Try.prog 3 #[.int .i64 a] w fun e w' => e = .returned (.bool true) ∧ Below w.heap.size w w' :=
  (tells_walk con a (wf64 ha) w trivial).mono (fun e w' h => ⟨h.1, below_g h.2⟩)
theorem looks_law (s : ByteArray) (n : Int) (b : Bool) (f : Nat) (w : World) (hs : s.data.toList.length ≤ 140737488351232) (hn : (Lit.int .i64 n).wf = true) : Calls Try.prog 4 #[.string s, .int .i64 n, .bool b, .float .f64 f] w fun e w' => e = .returned (.bool true) ∧ Below w.heap.size w w' := by
  have h := looks_walk con s.data.toList hs n (wf64 hn) b (.float .f64 f) w trivial
  rw [str_of] at h
  exact h.mono (fun e w' h => ⟨h.1, below_g h.2⟩)
end Go.Proofs.Ytljkncgbabiojaa.C23
