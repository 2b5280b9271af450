/-
  No cell of these rows narrows 'for every input' (looked for: loops, veiled, ifaces, maps, wideKeys, modest, calm, conditions, laid).
  DERIVED. THE GIVEN ROWS OF THIS SEAT. 4 by the template 'for every input the law returns true; each argument reads behind the call as it read before'; 0 by the template 'total and deterministic' (their statements: YtflecoooofcfdaaTotals.lean).
  GIVEN WITH THE SEED: the statements are not yours to turn. If you find one false, say at which input.
  Laid BY PROGRAM, IN A SANDBOX (cutbox-rows.mjs): the forced cells as the released guide's own fill.sh prints them over the translation 263bc95ef603d904… (all of the seat's roots in one cut). By AI agents, Wed Nov 11 2026. No macro, syntax, notation, axiom, sorry.
-/
import Derived.Test.YtflecoooofcfdaaChecked
import GoSem.Claim
import GoSem.ClaimJoined
import GoSem.ClaimMapViews
import Derived.JoinedTies
import Derived.KernelRfl
namespace Go.Proofs.Ytflecoooofcfdaa
/- THE CELL 'sum', in the pinned program and in every row, IS THE sha256 OF THE DUMP (.gsa) THAT YtflecoooofcfdaaProg.lean LOADS. Nothing in Lean hashes anything: it is a label: what it is worth is what the hold of that sum in a sandbox is worth. -/
noncomputable def Try.pinned : Pinned := { name := "ytflecoooofcfdaa", sum := "263bc95ef603d904e106f77a506b80fa9e141738e7543f192d8ae7cc860a922b", checked := Try.checked }
namespace Rows
def none {H : Type} : Left H := { results := [], args := [] }

/-- 'dragomanlaw09.IsoTells': WHATEVER THE INPUT: true; the input reads as it did. -/
def isoTellsSpec : ChangeSpec := { name := "isoTells", fn := fun _ => fun
  | [d1, d2, d3] => { results := [.lit (.bool true)], args := [d1, d2, d3] }
  | _ => none }
def isoTellsRow : OpenClaim := { program := "ytflecoooofcfdaa", sum := "263bc95ef603d904e106f77a506b80fa9e141738e7543f192d8ae7cc860a922b", func := "dragoman/dragomanlaw09.IsoTells", spec := "isoTells", apart := false }
def IsoTellsSaid : Prop := isoTellsRow.holds Try.pinned (OpenSpec.ofChange isoTellsSpec)

/-- ITS FALSE NEIGHBOUR: 'it returns false'. Refute it at one input. -/
def isoTellsWrong : ChangeSpec := { name := "isoTells", fn := fun _ => fun
  | [d1, d2, d3] => { results := [.lit (.bool false)], args := [d1, d2, d3] }
  | _ => none }
def IsoTellsWrongFalsely : Prop := isoTellsRow.holds Try.pinned (OpenSpec.ofChange isoTellsWrong)

/-- 'dragomanlaw09.IsoFlat': WHATEVER THE INPUT: true; the input reads as it did. -/
def isoFlatSpec : ChangeSpec := { name := "isoFlat", fn := fun _ => fun
  | [d] => { results := [.lit (.bool true)], args := [d] }
  | _ => none }
def isoFlatRow : OpenClaim := { program := "ytflecoooofcfdaa", sum := "263bc95ef603d904e106f77a506b80fa9e141738e7543f192d8ae7cc860a922b", func := "dragoman/dragomanlaw09.IsoFlat", spec := "isoFlat", apart := false }
def IsoFlatSaid : Prop := isoFlatRow.holds Try.pinned (OpenSpec.ofChange isoFlatSpec)

/-- ITS FALSE NEIGHBOUR: 'it returns false'. Refute it at one input. -/
def isoFlatWrong : ChangeSpec := { name := "isoFlat", fn := fun _ => fun
  | [d] => { results := [.lit (.bool false)], args := [d] }
  | _ => none }
def IsoFlatWrongFalsely : Prop := isoFlatRow.holds Try.pinned (OpenSpec.ofChange isoFlatWrong)

/-- 'dragomanlaw09.IsoBack': WHATEVER THE INPUT: true; the input reads as it did. -/
def isoBackSpec : ChangeSpec := { name := "isoBack", fn := fun _ => fun
  | [d1, d2] => { results := [.lit (.bool true)], args := [d1, d2] }
  | _ => none }
def isoBackRow : OpenClaim := { program := "ytflecoooofcfdaa", sum := "263bc95ef603d904e106f77a506b80fa9e141738e7543f192d8ae7cc860a922b", func := "dragoman/dragomanlaw09.IsoBack", spec := "isoBack", apart := false }
def IsoBackSaid : Prop := isoBackRow.holds Try.pinned (OpenSpec.ofChange isoBackSpec)

/-- ITS FALSE NEIGHBOUR: 'it returns false'. Refute it at one input. -/
def isoBackWrong : ChangeSpec := { name := "isoBack", fn := fun _ => fun
  | [d1, d2] => { results := [.lit (.bool false)], args := [d1, d2] }
  | _ => none }
def IsoBackWrongFalsely : Prop := isoBackRow.holds Try.pinned (OpenSpec.ofChange isoBackWrong)

/-- 'dragomanlaw09.IsoPlain': WHATEVER THE INPUT: true; the input reads as it did. -/
def isoPlainSpec : ChangeSpec := { name := "isoPlain", fn := fun _ => fun
  | [d1, d2, d3] => { results := [.lit (.bool true)], args := [d1, d2, d3] }
  | _ => none }
def isoPlainRow : OpenClaim := { program := "ytflecoooofcfdaa", sum := "263bc95ef603d904e106f77a506b80fa9e141738e7543f192d8ae7cc860a922b", func := "dragoman/dragomanlaw09.IsoPlain", spec := "isoPlain", apart := false }
def IsoPlainSaid : Prop := isoPlainRow.holds Try.pinned (OpenSpec.ofChange isoPlainSpec)

/-- ITS FALSE NEIGHBOUR: 'it returns false'. Refute it at one input. -/
def isoPlainWrong : ChangeSpec := { name := "isoPlain", fn := fun _ => fun
  | [d1, d2, d3] => { results := [.lit (.bool false)], args := [d1, d2, d3] }
  | _ => none }
def IsoPlainWrongFalsely : Prop := isoPlainRow.holds Try.pinned (OpenSpec.ofChange isoPlainWrong)

/- THE SECOND FORM. 'bulk': how many values and letters a reading holds, each counted each time it is reached (what is shared counts as often as it is met; a slice's spare places count too). A statement '..UptoSaid' is the law's where the arguments, and the package variables that the reading takes, are together of bulk at most 1048576: NARROWER than '..Said'. Prove '..Said' where nothing that the law and all that it calls make is longer than what came in: it says more and counts as full. Else prove '..UptoSaid'. A law counts once. -/
mutual
def uptoBulk {H : Type} : DataW H → Nat
  | .lit (.string bytes) => bytes.length + 1
  | .lit _ => 1
  | .nil => 1
  | .ptr d => uptoBulk d + 1
  | .slice elems spare => uptoBulkAll elems + uptoBulkAll spare + 1
  | .agg parts => uptoBulkAll parts + 1
  | .iface _ d => uptoBulk d + 1
  | .map entries => uptoBulkEntries entries + 1
  | .held _ => 1
def uptoBulkAll {H : Type} : List (DataW H) → Nat
  | [] => 0
  | d :: r => uptoBulk d + uptoBulkAll r
def uptoBulkEntries {H : Type} : List (Lit × DataW H) → Nat
  | [] => 0
  | x :: r => uptoBulkEntry x + uptoBulkEntries r
def uptoBulkEntry {H : Type} : Lit × DataW H → Nat
  | (.string bytes, d) => bytes.length + uptoBulk d + 1
  | (_, d) => uptoBulk d + 1
 end
def uptoSmall : (H : Type) → List (DataW H) → Bool := fun _ ds => decide (uptoBulkAll ds ≤ 1048576)
def OpenSpec.upto (s : _root_.Go.ChangeSpec) : _root_.Go.OpenSpec := { _root_.Go.OpenSpec.ofChange s with cond := some uptoSmall }

/-- 'dragomanlaw09.IsoTells', WHERE WHAT IT READS IS OF BULK AT MOST 1048576: true; the input reads as it did. -/
def isoTellsUptoRow : OpenClaim := { program := "ytflecoooofcfdaa", sum := "263bc95ef603d904e106f77a506b80fa9e141738e7543f192d8ae7cc860a922b", func := "dragoman/dragomanlaw09.IsoTells", spec := "isoTells", apart := false, narrowed := true }
def IsoTellsUptoSaid : Prop := isoTellsUptoRow.holds Try.pinned (OpenSpec.upto isoTellsSpec)

/-- 'dragomanlaw09.IsoFlat', WHERE WHAT IT READS IS OF BULK AT MOST 1048576: true; the input reads as it did. -/
def isoFlatUptoRow : OpenClaim := { program := "ytflecoooofcfdaa", sum := "263bc95ef603d904e106f77a506b80fa9e141738e7543f192d8ae7cc860a922b", func := "dragoman/dragomanlaw09.IsoFlat", spec := "isoFlat", apart := false, narrowed := true }
def IsoFlatUptoSaid : Prop := isoFlatUptoRow.holds Try.pinned (OpenSpec.upto isoFlatSpec)

/-- 'dragomanlaw09.IsoBack', WHERE WHAT IT READS IS OF BULK AT MOST 1048576: true; the input reads as it did. -/
def isoBackUptoRow : OpenClaim := { program := "ytflecoooofcfdaa", sum := "263bc95ef603d904e106f77a506b80fa9e141738e7543f192d8ae7cc860a922b", func := "dragoman/dragomanlaw09.IsoBack", spec := "isoBack", apart := false, narrowed := true }
def IsoBackUptoSaid : Prop := isoBackUptoRow.holds Try.pinned (OpenSpec.upto isoBackSpec)

/-- 'dragomanlaw09.IsoPlain', WHERE WHAT IT READS IS OF BULK AT MOST 1048576: true; the input reads as it did. -/
def isoPlainUptoRow : OpenClaim := { program := "ytflecoooofcfdaa", sum := "263bc95ef603d904e106f77a506b80fa9e141738e7543f192d8ae7cc860a922b", func := "dragoman/dragomanlaw09.IsoPlain", spec := "isoPlain", apart := false, narrowed := true }
def IsoPlainUptoSaid : Prop := isoPlainUptoRow.holds Try.pinned (OpenSpec.upto isoPlainSpec)

end Rows
end Go.Proofs.Ytflecoooofcfdaa
