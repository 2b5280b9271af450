/-
  DERIVED. GIVEN WITH THE SEED: THE CARDS: each row of YtbbegadpkpdiaabDoorRows.lean that lists a variable, with what it lists TIED to the program's text (the seventh form; the later family's looks); each row that meets fmt, with fmt's text TOLD by the authors' own Lean function (tested against real Go, not proved from fmt's source: count such statements apart). THE CARD IS WHAT COUNTS. Prove the row's statement (the work); the ties are given (YtbbegadpkpdiaabDoorTie.lean); close each card by the builder's one call (the guide's Derived/Test/ToyasCard.lean, 'card_holds'). Laid BY PROGRAM, IN A SANDBOX (cutbox-door.mjs). By AI agents, Wed Nov 11 2026. No macro, syntax, notation, axiom, sorry.
-/
import Derived.Test.YtbbegadpkpdiaabDoorRows
import GoSem.ClaimSeven
namespace Go.Proofs.YtbbegadpkpdiaabDoor
namespace Rows

/-- THE TIED CARD OF 'dragomanlaw03.Utf8Order'. -/
def utf8OrderCard : Claim7 := { stood := { row := utf8OrderRow, standIns := [], harness := (true, "1d998a623d0f6a52c21284400c4ccb4393d507a1a07f4f16c13d59f2c0c9e0f2"), looks := false }, kinds := [], alts := [], laidByText := true, laidKinds := [.data], laidTests := true, laidLooks := .later }
def Utf8OrderCardSaid : Prop := Claim7.holds Tryd.pinned (.plain (OpenSpec.ofChange utf8OrderSpec)) utf8OrderCard

/-- THE TIED CARD OF 'dragomanlaw03.Utf8Sync'. -/
def utf8SyncCard : Claim7 := { stood := { row := utf8SyncRow, standIns := [], harness := (true, "1d998a623d0f6a52c21284400c4ccb4393d507a1a07f4f16c13d59f2c0c9e0f2"), looks := false }, kinds := [], alts := [], laidByText := true, laidKinds := [.data], laidTests := true, laidLooks := .later }
def Utf8SyncCardSaid : Prop := Claim7.holds Tryd.pinned (.plain (OpenSpec.ofChange utf8SyncSpec)) utf8SyncCard

/-- THE SECOND FORM's CARD OF 'dragomanlaw03.Utf8Order'. -/
def utf8OrderUptoCard : Claim7 := { stood := { row := utf8OrderUptoRow, standIns := [], harness := (true, "1d998a623d0f6a52c21284400c4ccb4393d507a1a07f4f16c13d59f2c0c9e0f2"), looks := false }, kinds := [], alts := [], laidByText := true, laidKinds := [.data], laidTests := true, laidLooks := .later }
def Utf8OrderUptoCardSaid : Prop := Claim7.holds Tryd.pinned (.plain (OpenSpec.upto utf8OrderSpec)) utf8OrderUptoCard

/-- THE SECOND FORM's CARD OF 'dragomanlaw03.Utf8Sync'. -/
def utf8SyncUptoCard : Claim7 := { stood := { row := utf8SyncUptoRow, standIns := [], harness := (true, "1d998a623d0f6a52c21284400c4ccb4393d507a1a07f4f16c13d59f2c0c9e0f2"), looks := false }, kinds := [], alts := [], laidByText := true, laidKinds := [.data], laidTests := true, laidLooks := .later }
def Utf8SyncUptoCardSaid : Prop := Claim7.holds Tryd.pinned (.plain (OpenSpec.upto utf8SyncSpec)) utf8SyncUptoCard
end Rows
end Go.Proofs.YtbbegadpkpdiaabDoor
