/- Utf8Gets: the walk. -/
import Derived.Test.YtjhdepbiakekaaaWPasses
import Derived.Test.YtjhdepbiakekaaaRefGet
namespace Go.Proofs.Ytjhdepbiakekaaa.U8
open Go.ChangeShapes Go.WideShapes Go.ChangeAt Go.RowKit Go.Proofs.Ytjhdepbiakekaaa.Mem Go.Proofs.Ytjhdepbiakekaaa.Ucs
set_option linter.unusedVariables false

theorem refget_at (ao : Option Addr) (n cap : Nat) (L : List UInt8) (w : World) (hB : Bytes w ao L) (hn : L.length = n) (hl : n ≤ 140737488355328) (hc : n ≤ cap) (hcm : cap ≤ 9223372036854775807) (R : Res) (hR : get L = R) :
    Calls Try.prog 24 #[.slice ao n cap] w fun e w' => e = .returned (gotV R.err (R.n : Int) R.k (R.a : Int)) ∧ w.grownBy w' none := by
  subst hn; subst hR; exact refget_any ao cap L w hB hl hc hcm

end Go.Proofs.Ytjhdepbiakekaaa.U8
