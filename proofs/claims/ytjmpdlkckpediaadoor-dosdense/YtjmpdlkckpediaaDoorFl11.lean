/- The document's Flat: a walk. -/
import Derived.Test.YtjmpdlkckpediaaDoorRf11
import Derived.Test.YtjmpdlkckpediaaDoorRu
namespace Go.Proofs.YtjmpdlkckpediaaDoor.C11
open Go.ChangeShapes Go.WideShapes Go.ChangeAt Go.RowKit Go.Proofs.YtjmpdlkckpediaaDoor.Mem Go.Proofs.YtjmpdlkckpediaaDoor.El Go.Proofs.YtjmpdlkckpediaaDoor.Ru
set_option linter.unusedVariables false
set_option linter.unusedSimpArgs false

/-- All bytes' scalars. -/
def flR (k : Int) : List Int := if k ∈ kinds then (List.range 256).map (fun b => (atR k b : Int)) else []

end Go.Proofs.YtjmpdlkckpediaaDoor.C11
