/- VietHolds as a law over the program's contracts. -/
import Derived.Test.YtfehmbicolllkaaWH13
import Derived.Test.YtfehmbicolllkaaVZ13
namespace Go.Proofs.Ytfehmbicolllkaa.C13
open Go.RowKit Go.Proofs.Ytfehmbicolllkaa.Mem
set_option linter.unusedVariables false
theorem holds_law (ao : Option Addr) (cap : Nat) (L : List UInt8) (w : World) (hB : Bytes w ao L) (hLc : L.length ≤ cap) (hcm : cap ≤ 140737488351232) : Calls Try.prog 7 #[.slice ao L.length cap] w fun e w' => e = .returned (.bool true) ∧ Below w.heap.size w w' :=
  (holds_walk con ao cap L L.length rfl w trivial hB hLc hcm).mono (fun e w' h => ⟨h.1, below_g h.2⟩)
end Go.Proofs.Ytfehmbicolllkaa.C13
