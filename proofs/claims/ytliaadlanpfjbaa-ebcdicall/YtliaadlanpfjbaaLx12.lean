/- EbcdicAll and EbcdicDigits over the program's contracts. -/
import Derived.Test.YtliaadlanpfjbaaLw12
import Derived.Test.YtliaadlanpfjbaaWAl12
namespace Go.Proofs.Ytliaadlanpfjbaa.C12
open Go.RowKit Go.Proofs.Ytliaadlanpfjbaa.Mem
set_option linter.unusedVariables false

theorem all_law (a : Int) (ha : (Lit.int .i64 a).wf = true) (w : World) : Calls Try.prog 6 #[.int .i64 a] w fun e w' => e = .returned (.bool true) ∧ Below w.heap.size w w' :=
  (all_walk con (fun _ _ _ => trivial) a w trivial).mono (fun e w' h => ⟨h.1, below_g h.2⟩)
theorem digits_law (a b : Int) (ha : (Lit.int .i64 a).wf = true) (hb : (Lit.int .i64 b).wf = true) (w : World) : Calls Try.prog 7 #[.int .i64 a, .int .i64 b] w fun e w' => e = .returned (.bool true) ∧ Below w.heap.size w w' :=
  (digits_walk con a b w trivial).mono (fun e w' h => ⟨h.1, below_g h.2⟩)
end Go.Proofs.Ytliaadlanpfjbaa.C12
