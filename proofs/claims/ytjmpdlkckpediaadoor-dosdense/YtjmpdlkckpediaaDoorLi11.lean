/- The document's list of a kind: a walk. -/
import Derived.Test.YtjmpdlkckpediaaDoorRows
import Derived.WalkKit
import Derived.ProofKit
import Derived.Test.YtjmpdlkckpediaaDoorIl11
namespace Go.Proofs.YtjmpdlkckpediaaDoor.C11
open Go.ChangeShapes Go.WideShapes Go.ChangeAt Go.RowKit
set_option linter.unusedVariables false
set_option linter.unusedSimpArgs false

end Go.Proofs.YtjmpdlkckpediaaDoor.C11
