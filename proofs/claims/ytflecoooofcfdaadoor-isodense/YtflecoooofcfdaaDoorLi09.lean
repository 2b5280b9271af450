/- The document's list of a kind: a walk. -/
import Derived.Test.YtflecoooofcfdaaDoorRows
import Derived.WalkKit
import Derived.ProofKit
import Derived.Test.YtflecoooofcfdaaDoorIl09
namespace Go.Proofs.YtflecoooofcfdaaDoor.C09
open Go.ChangeShapes Go.WideShapes Go.ChangeAt Go.RowKit
set_option linter.unusedVariables false
set_option linter.unusedSimpArgs false

end Go.Proofs.YtflecoooofcfdaaDoor.C09
