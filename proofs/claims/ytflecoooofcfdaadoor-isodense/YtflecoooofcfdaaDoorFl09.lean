/- The document's Flat: a walk. -/
import Derived.Test.YtflecoooofcfdaaDoorRf09
import Derived.Test.YtflecoooofcfdaaDoorRu
namespace Go.Proofs.YtflecoooofcfdaaDoor.C09
open Go.ChangeShapes Go.WideShapes Go.ChangeAt Go.RowKit Go.Proofs.YtflecoooofcfdaaDoor.Mem Go.Proofs.YtflecoooofcfdaaDoor.El Go.Proofs.YtflecoooofcfdaaDoor.Ru
set_option linter.unusedVariables false
set_option linter.unusedSimpArgs false

/-- All bytes' scalars. -/
def flR (k : Int) : List Int := if k ∈ kinds then (List.range 256).map (fun b => (atR k b : Int)) else []

end Go.Proofs.YtflecoooofcfdaaDoor.C09
