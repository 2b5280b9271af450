/-
  DERIVED. GIVEN WITH THE SEED: THE CARDS: each row of YtljkncgbabiojaaDoorRows.lean that lists a variable, with what it lists TIED to the program's text (the seventh form; the later family's looks); each row that meets fmt, with fmt's text TOLD by the authors' own Lean function (tested against real Go, not proved from fmt's source: count such statements apart). THE CARD IS WHAT COUNTS. Prove the row's statement (the work); the ties are given (YtljkncgbabiojaaDoorTie.lean); close each card by the builder's one call (the guide's Derived/Test/ToyasCard.lean, 'card_holds'). Laid BY PROGRAM, IN A SANDBOX (cutbox-door.mjs). By AI agents, Wed Nov 11 2026. No macro, syntax, notation, axiom, sorry.
-/
import Derived.Test.YtljkncgbabiojaaDoorRows
import GoSem.ClaimSeven
namespace Go.Proofs.YtljkncgbabiojaaDoor
namespace Rows

/-- THE TIED CARD OF 'dragomanlaw23.NamesParts'. -/
def namesPartsCard : Claim7 := { stood := { row := namesPartsRow, standIns := [], harness := (true, "db6b484dbcdcded787d2e569846c404c490f32106dc7a947122d9130fc8851e4"), looks := true }, kinds := [], alts := [], laidByText := true, laidKinds := [.data, .pinned], laidTests := true, laidLooks := .later }
def NamesPartsCardSaid : Prop := Claim7.holds Tryd.pinned (.plain (OpenSpec.ofChange namesPartsSpec)) namesPartsCard

/-- THE TIED CARD OF 'dragomanlaw23.NamesBack'. -/
def namesBackCard : Claim7 := { stood := { row := namesBackRow, standIns := [], harness := (true, "db6b484dbcdcded787d2e569846c404c490f32106dc7a947122d9130fc8851e4"), looks := true }, kinds := [], alts := [], laidByText := true, laidKinds := [.data, .pinned], laidTests := true, laidLooks := .later }
def NamesBackCardSaid : Prop := Claim7.holds Tryd.pinned (.plain (OpenSpec.ofChange namesBackSpec)) namesBackCard

/-- THE TIED CARD OF 'dragomanlaw23.NamesFlags'. -/
def namesFlagsCard : Claim7 := { stood := { row := namesFlagsRow, standIns := [], harness := (true, "db6b484dbcdcded787d2e569846c404c490f32106dc7a947122d9130fc8851e4"), looks := true }, kinds := [], alts := [], laidByText := true, laidKinds := [.data, .pinned], laidTests := true, laidLooks := .later }
def NamesFlagsCardSaid : Prop := Claim7.holds Tryd.pinned (.plain (OpenSpec.ofChange namesFlagsSpec)) namesFlagsCard

/-- THE SECOND FORM's CARD OF 'dragomanlaw23.NamesParts'. -/
def namesPartsUptoCard : Claim7 := { stood := { row := namesPartsUptoRow, standIns := [], harness := (true, "db6b484dbcdcded787d2e569846c404c490f32106dc7a947122d9130fc8851e4"), looks := true }, kinds := [], alts := [], laidByText := true, laidKinds := [.data, .pinned], laidTests := true, laidLooks := .later }
def NamesPartsUptoCardSaid : Prop := Claim7.holds Tryd.pinned (.plain (OpenSpec.upto namesPartsSpec)) namesPartsUptoCard

/-- THE SECOND FORM's CARD OF 'dragomanlaw23.NamesBack'. -/
def namesBackUptoCard : Claim7 := { stood := { row := namesBackUptoRow, standIns := [], harness := (true, "db6b484dbcdcded787d2e569846c404c490f32106dc7a947122d9130fc8851e4"), looks := true }, kinds := [], alts := [], laidByText := true, laidKinds := [.data, .pinned], laidTests := true, laidLooks := .later }
def NamesBackUptoCardSaid : Prop := Claim7.holds Tryd.pinned (.plain (OpenSpec.upto namesBackSpec)) namesBackUptoCard

/-- THE SECOND FORM's CARD OF 'dragomanlaw23.NamesFlags'. -/
def namesFlagsUptoCard : Claim7 := { stood := { row := namesFlagsUptoRow, standIns := [], harness := (true, "db6b484dbcdcded787d2e569846c404c490f32106dc7a947122d9130fc8851e4"), looks := true }, kinds := [], alts := [], laidByText := true, laidKinds := [.data, .pinned], laidTests := true, laidLooks := .later }
def NamesFlagsUptoCardSaid : Prop := Claim7.holds Tryd.pinned (.plain (OpenSpec.upto namesFlagsSpec)) namesFlagsUptoCard
end Rows
end Go.Proofs.YtljkncgbabiojaaDoor
