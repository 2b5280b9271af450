/-
  DERIVED. GIVEN WITH THE SEED: THE CARDS: each row of YtflecoooofcfdaaDoorRows.lean that lists a variable, with what it lists TIED to the program's text (the seventh form; the later family's looks); each row that meets fmt, with fmt's text TOLD by the authors' own Lean function (tested against real Go, not proved from fmt's source: count such statements apart). THE CARD IS WHAT COUNTS. Prove the row's statement (the work); the ties are given (YtflecoooofcfdaaDoorTie.lean); close each card by the builder's one call (the guide's Derived/Test/ToyasCard.lean, 'card_holds'). Laid BY PROGRAM, IN A SANDBOX (cutbox-door.mjs). By AI agents, Wed Nov 11 2026. No macro, syntax, notation, axiom, sorry.
-/
import Derived.Test.YtflecoooofcfdaaDoorRows
import GoSem.ClaimSeven
namespace Go.Proofs.YtflecoooofcfdaaDoor
namespace Rows

/-- THE TIED CARD OF 'dragomanlaw09.IsoDense'. -/
def isoDenseCard : Claim7 := { stood := { row := isoDenseRow, standIns := [], harness := (true, "7d9901233015d983cd3f3c7e690c32f354435cbe14859ab3f55a68566c7eb42a"), looks := false }, kinds := [], alts := [], laidByText := true, laidKinds := [.data], laidTests := true, laidLooks := .later }
def IsoDenseCardSaid : Prop := Claim7.holds Tryd.pinned (.plain (OpenSpec.ofChange isoDenseSpec)) isoDenseCard

/-- THE SECOND FORM's CARD OF 'dragomanlaw09.IsoDense'. -/
def isoDenseUptoCard : Claim7 := { stood := { row := isoDenseUptoRow, standIns := [], harness := (true, "7d9901233015d983cd3f3c7e690c32f354435cbe14859ab3f55a68566c7eb42a"), looks := false }, kinds := [], alts := [], laidByText := true, laidKinds := [.data], laidTests := true, laidLooks := .later }
def IsoDenseUptoCardSaid : Prop := Claim7.holds Tryd.pinned (.plain (OpenSpec.upto isoDenseSpec)) isoDenseUptoCard
end Rows
end Go.Proofs.YtflecoooofcfdaaDoor
