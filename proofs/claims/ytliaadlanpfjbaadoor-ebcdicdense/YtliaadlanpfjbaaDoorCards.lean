/-
  DERIVED. GIVEN WITH THE SEED: THE CARDS: each row of YtliaadlanpfjbaaDoorRows.lean that lists a variable, with what it lists TIED to the program's text (the seventh form; the later family's looks); each row that meets fmt, with fmt's text TOLD by the authors' own Lean function (tested against real Go, not proved from fmt's source: count such statements apart). THE CARD IS WHAT COUNTS. Prove the row's statement (the work); the ties are given (YtliaadlanpfjbaaDoorTie.lean); close each card by the builder's one call (the guide's Derived/Test/ToyasCard.lean, 'card_holds'). Laid BY PROGRAM, IN A SANDBOX (cutbox-door.mjs). By AI agents, Wed Nov 11 2026. No macro, syntax, notation, axiom, sorry.
-/
import Derived.Test.YtliaadlanpfjbaaDoorRows
import GoSem.ClaimSeven
namespace Go.Proofs.YtliaadlanpfjbaaDoor
namespace Rows

/-- THE TIED CARD OF 'dragomanlaw12.EbcdicDense'. -/
def ebcdicDenseCard : Claim7 := { stood := { row := ebcdicDenseRow, standIns := [], harness := (true, "3870efebcdc15d8638305edae7f422ddb98e48464e7ef6cef38769a95324b287"), looks := false }, kinds := [], alts := [], laidByText := true, laidKinds := [.data], laidTests := true, laidLooks := .later }
def EbcdicDenseCardSaid : Prop := Claim7.holds Tryd.pinned (.plain (OpenSpec.ofChange ebcdicDenseSpec)) ebcdicDenseCard

/-- THE SECOND FORM's CARD OF 'dragomanlaw12.EbcdicDense'. -/
def ebcdicDenseUptoCard : Claim7 := { stood := { row := ebcdicDenseUptoRow, standIns := [], harness := (true, "3870efebcdc15d8638305edae7f422ddb98e48464e7ef6cef38769a95324b287"), looks := false }, kinds := [], alts := [], laidByText := true, laidKinds := [.data], laidTests := true, laidLooks := .later }
def EbcdicDenseUptoCardSaid : Prop := Claim7.holds Tryd.pinned (.plain (OpenSpec.upto ebcdicDenseSpec)) ebcdicDenseUptoCard
end Rows
end Go.Proofs.YtliaadlanpfjbaaDoor
