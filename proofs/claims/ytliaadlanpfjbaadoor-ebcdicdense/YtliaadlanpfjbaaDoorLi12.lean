/- The document's list of a kind: a walk. -/
import Derived.Test.YtliaadlanpfjbaaDoorRows
import Derived.WalkKit
import Derived.ProofKit
import Derived.Test.YtliaadlanpfjbaaDoorIl12
namespace Go.Proofs.YtliaadlanpfjbaaDoor.C12
open Go.ChangeShapes Go.WideShapes Go.ChangeAt Go.RowKit
set_option linter.unusedVariables false
set_option linter.unusedSimpArgs false

end Go.Proofs.YtliaadlanpfjbaaDoor.C12
