/-
  DERIVED. GIVEN WITH THE SEED: THE CARDS: each row of YtkhndmphgcdffaaDoorRows.lean that lists a variable, with what it lists TIED to the program's text (the seventh form; the later family's looks); each row that meets fmt, with fmt's text TOLD by the authors' own Lean function (tested against real Go, not proved from fmt's source: count such statements apart). THE CARD IS WHAT COUNTS. Prove the row's statement (the work); the ties are given (YtkhndmphgcdffaaDoorTie.lean); close each card by the builder's one call (the guide's Derived/Test/ToyasCard.lean, 'card_holds'). Laid BY PROGRAM, IN A SANDBOX (cutbox-door.mjs). By AI agents, Wed Nov 11 2026. No macro, syntax, notation, axiom, sorry.
-/
import Derived.Test.YtkhndmphgcdffaaDoorRows
import GoSem.ClaimSeven
namespace Go.Proofs.YtkhndmphgcdffaaDoor
namespace Rows

/-- THE TIED CARD OF 'dragomanlaw07.DenseTells'. -/
def denseTellsCard : Claim7 := { stood := { row := denseTellsRow, standIns := [], harness := (true, "e3935f2d87486b2d0719c88c9712da6576e92204046a84f14ac43a1f47a3c6b3"), looks := false }, kinds := [], alts := [], laidByText := true, laidKinds := [.data], laidTests := true, laidLooks := .later }
def DenseTellsCardSaid : Prop := Claim7.holds Tryd.pinned (.plain (OpenSpec.ofChange denseTellsSpec)) denseTellsCard

/-- THE TIED CARD OF 'dragomanlaw07.DenseBack'. -/
def denseBackCard : Claim7 := { stood := { row := denseBackRow, standIns := [], harness := (true, "e3935f2d87486b2d0719c88c9712da6576e92204046a84f14ac43a1f47a3c6b3"), looks := false }, kinds := [], alts := [], laidByText := true, laidKinds := [.data], laidTests := true, laidLooks := .later }
def DenseBackCardSaid : Prop := Claim7.holds Tryd.pinned (.plain (OpenSpec.ofChange denseBackSpec)) denseBackCard

/-- THE TIED CARD OF 'dragomanlaw07.DenseMore'. -/
def denseMoreCard : Claim7 := { stood := { row := denseMoreRow, standIns := [], harness := (true, "e3935f2d87486b2d0719c88c9712da6576e92204046a84f14ac43a1f47a3c6b3"), looks := false }, kinds := [], alts := [], laidByText := true, laidKinds := [.data], laidTests := true, laidLooks := .later }
def DenseMoreCardSaid : Prop := Claim7.holds Tryd.pinned (.plain (OpenSpec.ofChange denseMoreSpec)) denseMoreCard

/-- THE SECOND FORM's CARD OF 'dragomanlaw07.DenseTells'. -/
def denseTellsUptoCard : Claim7 := { stood := { row := denseTellsUptoRow, standIns := [], harness := (true, "e3935f2d87486b2d0719c88c9712da6576e92204046a84f14ac43a1f47a3c6b3"), looks := false }, kinds := [], alts := [], laidByText := true, laidKinds := [.data], laidTests := true, laidLooks := .later }
def DenseTellsUptoCardSaid : Prop := Claim7.holds Tryd.pinned (.plain (OpenSpec.upto denseTellsSpec)) denseTellsUptoCard

/-- THE SECOND FORM's CARD OF 'dragomanlaw07.DenseBack'. -/
def denseBackUptoCard : Claim7 := { stood := { row := denseBackUptoRow, standIns := [], harness := (true, "e3935f2d87486b2d0719c88c9712da6576e92204046a84f14ac43a1f47a3c6b3"), looks := false }, kinds := [], alts := [], laidByText := true, laidKinds := [.data], laidTests := true, laidLooks := .later }
def DenseBackUptoCardSaid : Prop := Claim7.holds Tryd.pinned (.plain (OpenSpec.upto denseBackSpec)) denseBackUptoCard

/-- THE SECOND FORM's CARD OF 'dragomanlaw07.DenseMore'. -/
def denseMoreUptoCard : Claim7 := { stood := { row := denseMoreUptoRow, standIns := [], harness := (true, "e3935f2d87486b2d0719c88c9712da6576e92204046a84f14ac43a1f47a3c6b3"), looks := false }, kinds := [], alts := [], laidByText := true, laidKinds := [.data], laidTests := true, laidLooks := .later }
def DenseMoreUptoCardSaid : Prop := Claim7.holds Tryd.pinned (.plain (OpenSpec.upto denseMoreSpec)) denseMoreUptoCard
end Rows
end Go.Proofs.YtkhndmphgcdffaaDoor
