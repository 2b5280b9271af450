/-
  DERIVED. GIVEN WITH THE SEED: THE CARDS: each row of YtjmpdlkckpediaaDoorRows.lean that lists a variable, with what it lists TIED to the program's text (the seventh form; the later family's looks); each row that meets fmt, with fmt's text TOLD by the authors' own Lean function (tested against real Go, not proved from fmt's source: count such statements apart). THE CARD IS WHAT COUNTS. Prove the row's statement (the work); the ties are given (YtjmpdlkckpediaaDoorTie.lean); close each card by the builder's one call (the guide's Derived/Test/ToyasCard.lean, 'card_holds'). Laid BY PROGRAM, IN A SANDBOX (cutbox-door.mjs). By AI agents, Wed Nov 11 2026. No macro, syntax, notation, axiom, sorry.
-/
import Derived.Test.YtjmpdlkckpediaaDoorRows
import GoSem.ClaimSeven
namespace Go.Proofs.YtjmpdlkckpediaaDoor
namespace Rows

/-- THE TIED CARD OF 'dragomanlaw11.DosDense'. -/
def dosDenseCard : Claim7 := { stood := { row := dosDenseRow, standIns := [], harness := (true, "ccd36737df08dc9094da7b6305f4b90ba3d5cb6b9d24fef03bfbd057be9035b8"), looks := false }, kinds := [], alts := [], laidByText := true, laidKinds := [.data], laidTests := true, laidLooks := .later }
def DosDenseCardSaid : Prop := Claim7.holds Tryd.pinned (.plain (OpenSpec.ofChange dosDenseSpec)) dosDenseCard

/-- THE SECOND FORM's CARD OF 'dragomanlaw11.DosDense'. -/
def dosDenseUptoCard : Claim7 := { stood := { row := dosDenseUptoRow, standIns := [], harness := (true, "ccd36737df08dc9094da7b6305f4b90ba3d5cb6b9d24fef03bfbd057be9035b8"), looks := false }, kinds := [], alts := [], laidByText := true, laidKinds := [.data], laidTests := true, laidLooks := .later }
def DosDenseUptoCardSaid : Prop := Claim7.holds Tryd.pinned (.plain (OpenSpec.upto dosDenseSpec)) dosDenseUptoCard
end Rows
end Go.Proofs.YtjmpdlkckpediaaDoor
