/- The document's list of a kind: a walk. -/
import Derived.Test.YtklccjnfjdojdaaDoorRows
import Derived.WalkKit
import Derived.ProofKit
import Derived.Test.YtklccjnfjdojdaaDoorIl10
namespace Go.Proofs.YtklccjnfjdojdaaDoor.C10
open Go.ChangeShapes Go.WideShapes Go.ChangeAt Go.RowKit
set_option linter.unusedVariables false
set_option linter.unusedSimpArgs false

end Go.Proofs.YtklccjnfjdojdaaDoor.C10
