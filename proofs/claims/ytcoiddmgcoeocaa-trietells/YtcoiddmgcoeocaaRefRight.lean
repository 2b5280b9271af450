/- The document's Right and scalars: walks. -/
import Derived.Test.YtcoiddmgcoeocaaFind
namespace Go.Proofs.Ytcoiddmgcoeocaa.Rn
open Go.ChangeShapes Go.WideShapes Go.ChangeAt Go.RowKit Go.Proofs.Ytcoiddmgcoeocaa.Mem Go.Proofs.Ytcoiddmgcoeocaa.Ucs Go.Proofs.Ytcoiddmgcoeocaa.El
set_option linter.unusedVariables false
set_option linter.unusedSimpArgs false

theorem scalarRef_lit (u : Int) (b : Bool) (h : scB u = b) (w : World) : Calls Try.prog 23 #[.int .i32 u] w fun e w' => e = .returned (.bool b) ∧ w' = w := by
  subst h; exact scalar_ref u w

end Go.Proofs.Ytcoiddmgcoeocaa.Rn
