/- The document's Flat: a walk. -/
import Derived.Test.YtklccjnfjdojdaaDoorRf10
import Derived.Test.YtklccjnfjdojdaaDoorRu
namespace Go.Proofs.YtklccjnfjdojdaaDoor.C10
open Go.ChangeShapes Go.WideShapes Go.ChangeAt Go.RowKit Go.Proofs.YtklccjnfjdojdaaDoor.Mem Go.Proofs.YtklccjnfjdojdaaDoor.El Go.Proofs.YtklccjnfjdojdaaDoor.Ru
set_option linter.unusedVariables false
set_option linter.unusedSimpArgs false

/-- All bytes' scalars. -/
def flR (k : Int) : List Int := if k ∈ kinds then (List.range 256).map (fun b => (atR k b : Int)) else []

end Go.Proofs.YtklccjnfjdojdaaDoor.C10
