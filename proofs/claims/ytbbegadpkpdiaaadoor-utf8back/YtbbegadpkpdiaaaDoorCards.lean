/-
  DERIVED. GIVEN WITH THE SEED: THE CARDS: each row of YtbbegadpkpdiaaaDoorRows.lean that lists a variable, with what it lists TIED to the program's text (the seventh form; the later family's looks); each row that meets fmt, with fmt's text TOLD by the authors' own Lean function (tested against real Go, not proved from fmt's source: count such statements apart). THE CARD IS WHAT COUNTS. Prove the row's statement (the work); the ties are given (YtbbegadpkpdiaaaDoorTie.lean); close each card by the builder's one call (the guide's Derived/Test/ToyasCard.lean, 'card_holds'). Laid BY PROGRAM, IN A SANDBOX (cutbox-door.mjs). By AI agents, Wed Nov 11 2026. No macro, syntax, notation, axiom, sorry.
-/
import Derived.Test.YtbbegadpkpdiaaaDoorRows
import GoSem.ClaimSeven
namespace Go.Proofs.YtbbegadpkpdiaaaDoor
namespace Rows

/-- THE TIED CARD OF 'dragomanlaw03.Utf8Gets'. -/
def utf8GetsCard : Claim7 := { stood := { row := utf8GetsRow, standIns := [], harness := (true, "8d1804ae5c5dae3df08901a35a3bb9633b907c215a442460a0c3444efb5e6309"), looks := false }, kinds := [], alts := [], laidByText := true, laidKinds := [.data], laidTests := true, laidLooks := .later }
def Utf8GetsCardSaid : Prop := Claim7.holds Tryd.pinned (.plain (OpenSpec.ofChange utf8GetsSpec)) utf8GetsCard

/-- THE TIED CARD OF 'dragomanlaw03.Utf8Sets'. -/
def utf8SetsCard : Claim7 := { stood := { row := utf8SetsRow, standIns := [], harness := (true, "8d1804ae5c5dae3df08901a35a3bb9633b907c215a442460a0c3444efb5e6309"), looks := false }, kinds := [], alts := [], laidByText := true, laidKinds := [.data], laidTests := true, laidLooks := .later }
def Utf8SetsCardSaid : Prop := Claim7.holds Tryd.pinned (.plain (OpenSpec.ofChange utf8SetsSpec)) utf8SetsCard

/-- THE TIED CARD OF 'dragomanlaw03.Utf8Reads'. -/
def utf8ReadsCard : Claim7 := { stood := { row := utf8ReadsRow, standIns := [], harness := (true, "8d1804ae5c5dae3df08901a35a3bb9633b907c215a442460a0c3444efb5e6309"), looks := false }, kinds := [], alts := [], laidByText := true, laidKinds := [.data], laidTests := true, laidLooks := .later }
def Utf8ReadsCardSaid : Prop := Claim7.holds Tryd.pinned (.plain (OpenSpec.ofChange utf8ReadsSpec)) utf8ReadsCard

/-- THE TIED CARD OF 'dragomanlaw03.Utf8Back'. -/
def utf8BackCard : Claim7 := { stood := { row := utf8BackRow, standIns := [], harness := (true, "8d1804ae5c5dae3df08901a35a3bb9633b907c215a442460a0c3444efb5e6309"), looks := false }, kinds := [], alts := [], laidByText := true, laidKinds := [.data], laidTests := true, laidLooks := .later }
def Utf8BackCardSaid : Prop := Claim7.holds Tryd.pinned (.plain (OpenSpec.ofChange utf8BackSpec)) utf8BackCard

/-- THE TIED CARD OF 'dragomanlaw03.Utf8Cuts'. -/
def utf8CutsCard : Claim7 := { stood := { row := utf8CutsRow, standIns := [], harness := (true, "8d1804ae5c5dae3df08901a35a3bb9633b907c215a442460a0c3444efb5e6309"), looks := false }, kinds := [], alts := [], laidByText := true, laidKinds := [.data], laidTests := true, laidLooks := .later }
def Utf8CutsCardSaid : Prop := Claim7.holds Tryd.pinned (.plain (OpenSpec.ofChange utf8CutsSpec)) utf8CutsCard

/-- THE TIED CARD OF 'dragomanlaw03.Utf8Passes'. -/
def utf8PassesCard : Claim7 := { stood := { row := utf8PassesRow, standIns := [], harness := (true, "8d1804ae5c5dae3df08901a35a3bb9633b907c215a442460a0c3444efb5e6309"), looks := false }, kinds := [], alts := [], laidByText := true, laidKinds := [.data], laidTests := true, laidLooks := .later }
def Utf8PassesCardSaid : Prop := Claim7.holds Tryd.pinned (.plain (OpenSpec.ofChange utf8PassesSpec)) utf8PassesCard

/-- THE SECOND FORM's CARD OF 'dragomanlaw03.Utf8Gets'. -/
def utf8GetsUptoCard : Claim7 := { stood := { row := utf8GetsUptoRow, standIns := [], harness := (true, "8d1804ae5c5dae3df08901a35a3bb9633b907c215a442460a0c3444efb5e6309"), looks := false }, kinds := [], alts := [], laidByText := true, laidKinds := [.data], laidTests := true, laidLooks := .later }
def Utf8GetsUptoCardSaid : Prop := Claim7.holds Tryd.pinned (.plain (OpenSpec.upto utf8GetsSpec)) utf8GetsUptoCard

/-- THE SECOND FORM's CARD OF 'dragomanlaw03.Utf8Sets'. -/
def utf8SetsUptoCard : Claim7 := { stood := { row := utf8SetsUptoRow, standIns := [], harness := (true, "8d1804ae5c5dae3df08901a35a3bb9633b907c215a442460a0c3444efb5e6309"), looks := false }, kinds := [], alts := [], laidByText := true, laidKinds := [.data], laidTests := true, laidLooks := .later }
def Utf8SetsUptoCardSaid : Prop := Claim7.holds Tryd.pinned (.plain (OpenSpec.upto utf8SetsSpec)) utf8SetsUptoCard

/-- THE SECOND FORM's CARD OF 'dragomanlaw03.Utf8Reads'. -/
def utf8ReadsUptoCard : Claim7 := { stood := { row := utf8ReadsUptoRow, standIns := [], harness := (true, "8d1804ae5c5dae3df08901a35a3bb9633b907c215a442460a0c3444efb5e6309"), looks := false }, kinds := [], alts := [], laidByText := true, laidKinds := [.data], laidTests := true, laidLooks := .later }
def Utf8ReadsUptoCardSaid : Prop := Claim7.holds Tryd.pinned (.plain (OpenSpec.upto utf8ReadsSpec)) utf8ReadsUptoCard

/-- THE SECOND FORM's CARD OF 'dragomanlaw03.Utf8Back'. -/
def utf8BackUptoCard : Claim7 := { stood := { row := utf8BackUptoRow, standIns := [], harness := (true, "8d1804ae5c5dae3df08901a35a3bb9633b907c215a442460a0c3444efb5e6309"), looks := false }, kinds := [], alts := [], laidByText := true, laidKinds := [.data], laidTests := true, laidLooks := .later }
def Utf8BackUptoCardSaid : Prop := Claim7.holds Tryd.pinned (.plain (OpenSpec.upto utf8BackSpec)) utf8BackUptoCard

/-- THE SECOND FORM's CARD OF 'dragomanlaw03.Utf8Cuts'. -/
def utf8CutsUptoCard : Claim7 := { stood := { row := utf8CutsUptoRow, standIns := [], harness := (true, "8d1804ae5c5dae3df08901a35a3bb9633b907c215a442460a0c3444efb5e6309"), looks := false }, kinds := [], alts := [], laidByText := true, laidKinds := [.data], laidTests := true, laidLooks := .later }
def Utf8CutsUptoCardSaid : Prop := Claim7.holds Tryd.pinned (.plain (OpenSpec.upto utf8CutsSpec)) utf8CutsUptoCard

/-- THE SECOND FORM's CARD OF 'dragomanlaw03.Utf8Passes'. -/
def utf8PassesUptoCard : Claim7 := { stood := { row := utf8PassesUptoRow, standIns := [], harness := (true, "8d1804ae5c5dae3df08901a35a3bb9633b907c215a442460a0c3444efb5e6309"), looks := false }, kinds := [], alts := [], laidByText := true, laidKinds := [.data], laidTests := true, laidLooks := .later }
def Utf8PassesUptoCardSaid : Prop := Claim7.holds Tryd.pinned (.plain (OpenSpec.upto utf8PassesSpec)) utf8PassesUptoCard
end Rows
end Go.Proofs.YtbbegadpkpdiaaaDoor
