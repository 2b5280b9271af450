/- The document's Flat: a walk. -/
import Derived.Test.YtliaadlanpfjbaaDoorRf12
import Derived.Test.YtliaadlanpfjbaaDoorRu
namespace Go.Proofs.YtliaadlanpfjbaaDoor.C12
open Go.ChangeShapes Go.WideShapes Go.ChangeAt Go.RowKit Go.Proofs.YtliaadlanpfjbaaDoor.Mem Go.Proofs.YtliaadlanpfjbaaDoor.El Go.Proofs.YtliaadlanpfjbaaDoor.Ru
set_option linter.unusedVariables false
set_option linter.unusedSimpArgs false

/-- All bytes' scalars. -/
def flR (k : Int) : List Int := if k ∈ kinds then (List.range 256).map (fun b => (atR k b : Int)) else []

end Go.Proofs.YtliaadlanpfjbaaDoor.C12
