/-
  No cell of these rows narrows 'for every input' (looked for: loops, veiled, ifaces, maps, wideKeys, modest, calm, conditions, laid).
  DERIVED. THE GIVEN ROWS OF THIS SEAT. 4 by the template 'for every input the law returns true; each argument reads behind the call as it read before'; 0 by the template 'total and deterministic' (their statements: YtjmpdlkckpediaaTotals.lean).
  GIVEN WITH THE SEED: the statements are not yours to turn. If you find one false, say at which input.
  Laid BY PROGRAM, IN A SANDBOX (cutbox-rows.mjs): the forced cells as the released guide's own fill.sh prints them over the translation 5503ed286b65eeba… (all of the seat's roots in one cut). By AI agents, Wed Nov 11 2026. No macro, syntax, notation, axiom, sorry.
-/
import Derived.Test.YtjmpdlkckpediaaChecked
import GoSem.Claim
import GoSem.ClaimJoined
import GoSem.ClaimMapViews
import Derived.JoinedTies
import Derived.KernelRfl
namespace Go.Proofs.Ytjmpdlkckpediaa
/- THE CELL 'sum', in the pinned program and in every row, IS THE sha256 OF THE DUMP (.gsa) THAT YtjmpdlkckpediaaProg.lean LOADS. Nothing in Lean hashes anything: it is a label: what it is worth is what the hold of that sum in a sandbox is worth. -/
noncomputable def Try.pinned : Pinned := { name := "ytjmpdlkckpediaa", sum := "5503ed286b65eeba201cb5c7dea9dc4ae6702d36d4a616fca6971c337a2f8bd1", checked := Try.checked }
namespace Rows
def none {H : Type} : Left H := { results := [], args := [] }

/-- 'dragomanlaw11.DosTells': WHATEVER THE INPUT: true; the input reads as it did. -/
def dosTellsSpec : ChangeSpec := { name := "dosTells", fn := fun _ => fun
  | [d1, d2, d3] => { results := [.lit (.bool true)], args := [d1, d2, d3] }
  | _ => none }
def dosTellsRow : OpenClaim := { program := "ytjmpdlkckpediaa", sum := "5503ed286b65eeba201cb5c7dea9dc4ae6702d36d4a616fca6971c337a2f8bd1", func := "dragoman/dragomanlaw11.DosTells", spec := "dosTells", apart := false }
def DosTellsSaid : Prop := dosTellsRow.holds Try.pinned (OpenSpec.ofChange dosTellsSpec)

/-- ITS FALSE NEIGHBOUR: 'it returns false'. Refute it at one input. -/
def dosTellsWrong : ChangeSpec := { name := "dosTells", fn := fun _ => fun
  | [d1, d2, d3] => { results := [.lit (.bool false)], args := [d1, d2, d3] }
  | _ => none }
def DosTellsWrongFalsely : Prop := dosTellsRow.holds Try.pinned (OpenSpec.ofChange dosTellsWrong)

/-- 'dragomanlaw11.DosFlat': WHATEVER THE INPUT: true; the input reads as it did. -/
def dosFlatSpec : ChangeSpec := { name := "dosFlat", fn := fun _ => fun
  | [d] => { results := [.lit (.bool true)], args := [d] }
  | _ => none }
def dosFlatRow : OpenClaim := { program := "ytjmpdlkckpediaa", sum := "5503ed286b65eeba201cb5c7dea9dc4ae6702d36d4a616fca6971c337a2f8bd1", func := "dragoman/dragomanlaw11.DosFlat", spec := "dosFlat", apart := false }
def DosFlatSaid : Prop := dosFlatRow.holds Try.pinned (OpenSpec.ofChange dosFlatSpec)

/-- ITS FALSE NEIGHBOUR: 'it returns false'. Refute it at one input. -/
def dosFlatWrong : ChangeSpec := { name := "dosFlat", fn := fun _ => fun
  | [d] => { results := [.lit (.bool false)], args := [d] }
  | _ => none }
def DosFlatWrongFalsely : Prop := dosFlatRow.holds Try.pinned (OpenSpec.ofChange dosFlatWrong)

/-- 'dragomanlaw11.DosBack': WHATEVER THE INPUT: true; the input reads as it did. -/
def dosBackSpec : ChangeSpec := { name := "dosBack", fn := fun _ => fun
  | [d1, d2] => { results := [.lit (.bool true)], args := [d1, d2] }
  | _ => none }
def dosBackRow : OpenClaim := { program := "ytjmpdlkckpediaa", sum := "5503ed286b65eeba201cb5c7dea9dc4ae6702d36d4a616fca6971c337a2f8bd1", func := "dragoman/dragomanlaw11.DosBack", spec := "dosBack", apart := false }
def DosBackSaid : Prop := dosBackRow.holds Try.pinned (OpenSpec.ofChange dosBackSpec)

/-- ITS FALSE NEIGHBOUR: 'it returns false'. Refute it at one input. -/
def dosBackWrong : ChangeSpec := { name := "dosBack", fn := fun _ => fun
  | [d1, d2] => { results := [.lit (.bool false)], args := [d1, d2] }
  | _ => none }
def DosBackWrongFalsely : Prop := dosBackRow.holds Try.pinned (OpenSpec.ofChange dosBackWrong)

/-- 'dragomanlaw11.DosPlain': WHATEVER THE INPUT: true; the input reads as it did. -/
def dosPlainSpec : ChangeSpec := { name := "dosPlain", fn := fun _ => fun
  | [d1, d2, d3] => { results := [.lit (.bool true)], args := [d1, d2, d3] }
  | _ => none }
def dosPlainRow : OpenClaim := { program := "ytjmpdlkckpediaa", sum := "5503ed286b65eeba201cb5c7dea9dc4ae6702d36d4a616fca6971c337a2f8bd1", func := "dragoman/dragomanlaw11.DosPlain", spec := "dosPlain", apart := false }
def DosPlainSaid : Prop := dosPlainRow.holds Try.pinned (OpenSpec.ofChange dosPlainSpec)

/-- ITS FALSE NEIGHBOUR: 'it returns false'. Refute it at one input. -/
def dosPlainWrong : ChangeSpec := { name := "dosPlain", fn := fun _ => fun
  | [d1, d2, d3] => { results := [.lit (.bool false)], args := [d1, d2, d3] }
  | _ => none }
def DosPlainWrongFalsely : Prop := dosPlainRow.holds Try.pinned (OpenSpec.ofChange dosPlainWrong)

/- THE SECOND FORM. 'bulk': how many values and letters a reading holds, each counted each time it is reached (what is shared counts as often as it is met; a slice's spare places count too). A statement '..UptoSaid' is the law's where the arguments, and the package variables that the reading takes, are together of bulk at most 1048576: NARROWER than '..Said'. Prove '..Said' where nothing that the law and all that it calls make is longer than what came in: it says more and counts as full. Else prove '..UptoSaid'. A law counts once. -/
mutual
def uptoBulk {H : Type} : DataW H → Nat
  | .lit (.string bytes) => bytes.length + 1
  | .lit _ => 1
  | .nil => 1
  | .ptr d => uptoBulk d + 1
  | .slice elems spare => uptoBulkAll elems + uptoBulkAll spare + 1
  | .agg parts => uptoBulkAll parts + 1
  | .iface _ d => uptoBulk d + 1
  | .map entries => uptoBulkEntries entries + 1
  | .held _ => 1
def uptoBulkAll {H : Type} : List (DataW H) → Nat
  | [] => 0
  | d :: r => uptoBulk d + uptoBulkAll r
def uptoBulkEntries {H : Type} : List (Lit × DataW H) → Nat
  | [] => 0
  | x :: r => uptoBulkEntry x + uptoBulkEntries r
def uptoBulkEntry {H : Type} : Lit × DataW H → Nat
  | (.string bytes, d) => bytes.length + uptoBulk d + 1
  | (_, d) => uptoBulk d + 1
 end
def uptoSmall : (H : Type) → List (DataW H) → Bool := fun _ ds => decide (uptoBulkAll ds ≤ 1048576)
def OpenSpec.upto (s : _root_.Go.ChangeSpec) : _root_.Go.OpenSpec := { _root_.Go.OpenSpec.ofChange s with cond := some uptoSmall }

/-- 'dragomanlaw11.DosTells', WHERE WHAT IT READS IS OF BULK AT MOST 1048576: true; the input reads as it did. -/
def dosTellsUptoRow : OpenClaim := { program := "ytjmpdlkckpediaa", sum := "5503ed286b65eeba201cb5c7dea9dc4ae6702d36d4a616fca6971c337a2f8bd1", func := "dragoman/dragomanlaw11.DosTells", spec := "dosTells", apart := false, narrowed := true }
def DosTellsUptoSaid : Prop := dosTellsUptoRow.holds Try.pinned (OpenSpec.upto dosTellsSpec)

/-- 'dragomanlaw11.DosFlat', WHERE WHAT IT READS IS OF BULK AT MOST 1048576: true; the input reads as it did. -/
def dosFlatUptoRow : OpenClaim := { program := "ytjmpdlkckpediaa", sum := "5503ed286b65eeba201cb5c7dea9dc4ae6702d36d4a616fca6971c337a2f8bd1", func := "dragoman/dragomanlaw11.DosFlat", spec := "dosFlat", apart := false, narrowed := true }
def DosFlatUptoSaid : Prop := dosFlatUptoRow.holds Try.pinned (OpenSpec.upto dosFlatSpec)

/-- 'dragomanlaw11.DosBack', WHERE WHAT IT READS IS OF BULK AT MOST 1048576: true; the input reads as it did. -/
def dosBackUptoRow : OpenClaim := { program := "ytjmpdlkckpediaa", sum := "5503ed286b65eeba201cb5c7dea9dc4ae6702d36d4a616fca6971c337a2f8bd1", func := "dragoman/dragomanlaw11.DosBack", spec := "dosBack", apart := false, narrowed := true }
def DosBackUptoSaid : Prop := dosBackUptoRow.holds Try.pinned (OpenSpec.upto dosBackSpec)

/-- 'dragomanlaw11.DosPlain', WHERE WHAT IT READS IS OF BULK AT MOST 1048576: true; the input reads as it did. -/
def dosPlainUptoRow : OpenClaim := { program := "ytjmpdlkckpediaa", sum := "5503ed286b65eeba201cb5c7dea9dc4ae6702d36d4a616fca6971c337a2f8bd1", func := "dragoman/dragomanlaw11.DosPlain", spec := "dosPlain", apart := false, narrowed := true }
def DosPlainUptoSaid : Prop := dosPlainUptoRow.holds Try.pinned (OpenSpec.upto dosPlainSpec)

end Rows
end Go.Proofs.Ytjmpdlkckpediaa
