/- The document's list of a kind: a walk. -/
import Derived.Test.YtdphkpjamclhjaaRows
import Derived.WalkKit
import Derived.ProofKit
import Derived.Test.YtdphkpjamclhjaaRI16
namespace Go.Proofs.Ytdphkpjamclhjaa.C16
open Go.ChangeShapes Go.WideShapes Go.ChangeAt Go.RowKit
set_option linter.unusedVariables false
set_option linter.unusedSimpArgs false

end Go.Proofs.Ytdphkpjamclhjaa.C16
