/- The program's Valid: a walk. -/
import Derived.Test.YtjhdepbiakekaaaWorks
import Derived.Test.YtjhdepbiakekaaaScan
namespace Go.Proofs.Ytjhdepbiakekaaa.U8
open Go.ChangeShapes Go.WideShapes Go.ChangeAt Go.RowKit Go.Proofs.Ytjhdepbiakekaaa.Mem Go.Proofs.Ytjhdepbiakekaaa.Ucs
set_option linter.unusedVariables false

theorem ret_nb {a c : Int} {b d : Bool} (h : a = c) (g : b = d) : Ending.returned (.tuple #[.int .i64 a, .bool b]) = .returned (.tuple #[.int .i64 c, .bool d]) := by rw [h, g]
end Go.Proofs.Ytjhdepbiakekaaa.U8
