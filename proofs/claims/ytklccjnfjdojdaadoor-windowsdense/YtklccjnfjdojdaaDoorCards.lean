/-
  DERIVED. GIVEN WITH THE SEED: THE CARDS: each row of YtklccjnfjdojdaaDoorRows.lean that lists a variable, with what it lists TIED to the program's text (the seventh form; the later family's looks); each row that meets fmt, with fmt's text TOLD by the authors' own Lean function (tested against real Go, not proved from fmt's source: count such statements apart). THE CARD IS WHAT COUNTS. Prove the row's statement (the work); the ties are given (YtklccjnfjdojdaaDoorTie.lean); close each card by the builder's one call (the guide's Derived/Test/ToyasCard.lean, 'card_holds'). Laid BY PROGRAM, IN A SANDBOX (cutbox-door.mjs). By AI agents, Wed Nov 11 2026. No macro, syntax, notation, axiom, sorry.
-/
import Derived.Test.YtklccjnfjdojdaaDoorRows
import GoSem.ClaimSeven
namespace Go.Proofs.YtklccjnfjdojdaaDoor
namespace Rows

/-- THE TIED CARD OF 'dragomanlaw10.WindowsDense'. -/
def windowsDenseCard : Claim7 := { stood := { row := windowsDenseRow, standIns := [], harness := (true, "0dbd07a4913d3d5c5bb0edc6bbba9817ff741e2502cbf9ab09c6215a43821613"), looks := false }, kinds := [], alts := [], laidByText := true, laidKinds := [.data], laidTests := true, laidLooks := .later }
def WindowsDenseCardSaid : Prop := Claim7.holds Tryd.pinned (.plain (OpenSpec.ofChange windowsDenseSpec)) windowsDenseCard

/-- THE SECOND FORM's CARD OF 'dragomanlaw10.WindowsDense'. -/
def windowsDenseUptoCard : Claim7 := { stood := { row := windowsDenseUptoRow, standIns := [], harness := (true, "0dbd07a4913d3d5c5bb0edc6bbba9817ff741e2502cbf9ab09c6215a43821613"), looks := false }, kinds := [], alts := [], laidByText := true, laidKinds := [.data], laidTests := true, laidLooks := .later }
def WindowsDenseUptoCardSaid : Prop := Claim7.holds Tryd.pinned (.plain (OpenSpec.upto windowsDenseSpec)) windowsDenseUptoCard
end Rows
end Go.Proofs.YtklccjnfjdojdaaDoor
