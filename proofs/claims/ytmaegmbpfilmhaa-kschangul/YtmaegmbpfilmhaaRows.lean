/-
  No cell of these rows narrows 'for every input' (looked for: loops, veiled, ifaces, maps, wideKeys, modest, calm, conditions, laid).
  DERIVED. THE GIVEN ROWS OF THIS SEAT. 5 by the template 'for every input the law returns true; each argument reads behind the call as it read before'; 0 by the template 'total and deterministic' (their statements: YtmaegmbpfilmhaaTotals.lean).
  GIVEN WITH THE SEED: the statements are not yours to turn. If you find one false, say at which input.
  Laid BY PROGRAM, IN A SANDBOX (cutbox-rows.mjs): the forced cells as the released guide's own fill.sh prints them over the translation 63ca43039044b37f… (all of the seat's roots in one cut). By AI agents, Wed Nov 11 2026. No macro, syntax, notation, axiom, sorry.
-/
import Derived.Test.YtmaegmbpfilmhaaChecked
import GoSem.Claim
import GoSem.ClaimJoined
import GoSem.ClaimMapViews
import Derived.JoinedTies
import Derived.KernelRfl
namespace Go.Proofs.Ytmaegmbpfilmhaa
/- THE CELL 'sum', in the pinned program and in every row, IS THE sha256 OF THE DUMP (.gsa) THAT YtmaegmbpfilmhaaProg.lean LOADS. Nothing in Lean hashes anything: it is a label: what it is worth is what the hold of that sum in a sandbox is worth. -/
noncomputable def Try.pinned : Pinned := { name := "ytmaegmbpfilmhaa", sum := "63ca43039044b37f762fcbfec6ed59134de4bda420feadd6b9b029dcda06b077", checked := Try.checked }
namespace Rows
def none {H : Type} : Left H := { results := [], args := [] }

/-- 'dragomanlaw16.KscTells': WHATEVER THE INPUT: true; the input reads as it did. -/
def kscTellsSpec : ChangeSpec := { name := "kscTells", fn := fun _ => fun
  | [d1, d2, d3] => { results := [.lit (.bool true)], args := [d1, d2, d3] }
  | _ => none }
def kscTellsRow : OpenClaim := { program := "ytmaegmbpfilmhaa", sum := "63ca43039044b37f762fcbfec6ed59134de4bda420feadd6b9b029dcda06b077", func := "dragoman/dragomanlaw16.KscTells", spec := "kscTells", apart := false }
def KscTellsSaid : Prop := kscTellsRow.holds Try.pinned (OpenSpec.ofChange kscTellsSpec)

/-- ITS FALSE NEIGHBOUR: 'it returns false'. Refute it at one input. -/
def kscTellsWrong : ChangeSpec := { name := "kscTells", fn := fun _ => fun
  | [d1, d2, d3] => { results := [.lit (.bool false)], args := [d1, d2, d3] }
  | _ => none }
def KscTellsWrongFalsely : Prop := kscTellsRow.holds Try.pinned (OpenSpec.ofChange kscTellsWrong)

/-- 'dragomanlaw16.KscRows': WHATEVER THE INPUT: true; the input reads as it did. -/
def kscRowsSpec : ChangeSpec := { name := "kscRows", fn := fun _ => fun
  | [d] => { results := [.lit (.bool true)], args := [d] }
  | _ => none }
def kscRowsRow : OpenClaim := { program := "ytmaegmbpfilmhaa", sum := "63ca43039044b37f762fcbfec6ed59134de4bda420feadd6b9b029dcda06b077", func := "dragoman/dragomanlaw16.KscRows", spec := "kscRows", apart := false }
def KscRowsSaid : Prop := kscRowsRow.holds Try.pinned (OpenSpec.ofChange kscRowsSpec)

/-- ITS FALSE NEIGHBOUR: 'it returns false'. Refute it at one input. -/
def kscRowsWrong : ChangeSpec := { name := "kscRows", fn := fun _ => fun
  | [d] => { results := [.lit (.bool false)], args := [d] }
  | _ => none }
def KscRowsWrongFalsely : Prop := kscRowsRow.holds Try.pinned (OpenSpec.ofChange kscRowsWrong)

/-- 'dragomanlaw16.KscBack': WHATEVER THE INPUT: true; the input reads as it did. -/
def kscBackSpec : ChangeSpec := { name := "kscBack", fn := fun _ => fun
  | [d1, d2] => { results := [.lit (.bool true)], args := [d1, d2] }
  | _ => none }
def kscBackRow : OpenClaim := { program := "ytmaegmbpfilmhaa", sum := "63ca43039044b37f762fcbfec6ed59134de4bda420feadd6b9b029dcda06b077", func := "dragoman/dragomanlaw16.KscBack", spec := "kscBack", apart := false }
def KscBackSaid : Prop := kscBackRow.holds Try.pinned (OpenSpec.ofChange kscBackSpec)

/-- ITS FALSE NEIGHBOUR: 'it returns false'. Refute it at one input. -/
def kscBackWrong : ChangeSpec := { name := "kscBack", fn := fun _ => fun
  | [d1, d2] => { results := [.lit (.bool false)], args := [d1, d2] }
  | _ => none }
def KscBackWrongFalsely : Prop := kscBackRow.holds Try.pinned (OpenSpec.ofChange kscBackWrong)

/-- 'dragomanlaw16.KscParts': WHATEVER THE INPUT: true; the input reads as it did. -/
def kscPartsSpec : ChangeSpec := { name := "kscParts", fn := fun _ => fun
  | [d1, d2, d3, d4] => { results := [.lit (.bool true)], args := [d1, d2, d3, d4] }
  | _ => none }
def kscPartsRow : OpenClaim := { program := "ytmaegmbpfilmhaa", sum := "63ca43039044b37f762fcbfec6ed59134de4bda420feadd6b9b029dcda06b077", func := "dragoman/dragomanlaw16.KscParts", spec := "kscParts", apart := false }
def KscPartsSaid : Prop := kscPartsRow.holds Try.pinned (OpenSpec.ofChange kscPartsSpec)

/-- ITS FALSE NEIGHBOUR: 'it returns false'. Refute it at one input. -/
def kscPartsWrong : ChangeSpec := { name := "kscParts", fn := fun _ => fun
  | [d1, d2, d3, d4] => { results := [.lit (.bool false)], args := [d1, d2, d3, d4] }
  | _ => none }
def KscPartsWrongFalsely : Prop := kscPartsRow.holds Try.pinned (OpenSpec.ofChange kscPartsWrong)

/-- 'dragomanlaw16.KscHangul': WHATEVER THE INPUT: true; the input reads as it did. -/
def kscHangulSpec : ChangeSpec := { name := "kscHangul", fn := fun _ => fun
  | [d1, d2, d3, d4] => { results := [.lit (.bool true)], args := [d1, d2, d3, d4] }
  | _ => none }
def kscHangulRow : OpenClaim := { program := "ytmaegmbpfilmhaa", sum := "63ca43039044b37f762fcbfec6ed59134de4bda420feadd6b9b029dcda06b077", func := "dragoman/dragomanlaw16.KscHangul", spec := "kscHangul", apart := false }
def KscHangulSaid : Prop := kscHangulRow.holds Try.pinned (OpenSpec.ofChange kscHangulSpec)

/-- ITS FALSE NEIGHBOUR: 'it returns false'. Refute it at one input. -/
def kscHangulWrong : ChangeSpec := { name := "kscHangul", fn := fun _ => fun
  | [d1, d2, d3, d4] => { results := [.lit (.bool false)], args := [d1, d2, d3, d4] }
  | _ => none }
def KscHangulWrongFalsely : Prop := kscHangulRow.holds Try.pinned (OpenSpec.ofChange kscHangulWrong)

/- THE SECOND FORM. 'bulk': how many values and letters a reading holds, each counted each time it is reached (what is shared counts as often as it is met; a slice's spare places count too). A statement '..UptoSaid' is the law's where the arguments, and the package variables that the reading takes, are together of bulk at most 1048576: NARROWER than '..Said'. Prove '..Said' where nothing that the law and all that it calls make is longer than what came in: it says more and counts as full. Else prove '..UptoSaid'. A law counts once. -/
mutual
def uptoBulk {H : Type} : DataW H → Nat
  | .lit (.string bytes) => bytes.length + 1
  | .lit _ => 1
  | .nil => 1
  | .ptr d => uptoBulk d + 1
  | .slice elems spare => uptoBulkAll elems + uptoBulkAll spare + 1
  | .agg parts => uptoBulkAll parts + 1
  | .iface _ d => uptoBulk d + 1
  | .map entries => uptoBulkEntries entries + 1
  | .held _ => 1
def uptoBulkAll {H : Type} : List (DataW H) → Nat
  | [] => 0
  | d :: r => uptoBulk d + uptoBulkAll r
def uptoBulkEntries {H : Type} : List (Lit × DataW H) → Nat
  | [] => 0
  | x :: r => uptoBulkEntry x + uptoBulkEntries r
def uptoBulkEntry {H : Type} : Lit × DataW H → Nat
  | (.string bytes, d) => bytes.length + uptoBulk d + 1
  | (_, d) => uptoBulk d + 1
 end
def uptoSmall : (H : Type) → List (DataW H) → Bool := fun _ ds => decide (uptoBulkAll ds ≤ 1048576)
def OpenSpec.upto (s : _root_.Go.ChangeSpec) : _root_.Go.OpenSpec := { _root_.Go.OpenSpec.ofChange s with cond := some uptoSmall }

/-- 'dragomanlaw16.KscTells', WHERE WHAT IT READS IS OF BULK AT MOST 1048576: true; the input reads as it did. -/
def kscTellsUptoRow : OpenClaim := { program := "ytmaegmbpfilmhaa", sum := "63ca43039044b37f762fcbfec6ed59134de4bda420feadd6b9b029dcda06b077", func := "dragoman/dragomanlaw16.KscTells", spec := "kscTells", apart := false, narrowed := true }
def KscTellsUptoSaid : Prop := kscTellsUptoRow.holds Try.pinned (OpenSpec.upto kscTellsSpec)

/-- 'dragomanlaw16.KscRows', WHERE WHAT IT READS IS OF BULK AT MOST 1048576: true; the input reads as it did. -/
def kscRowsUptoRow : OpenClaim := { program := "ytmaegmbpfilmhaa", sum := "63ca43039044b37f762fcbfec6ed59134de4bda420feadd6b9b029dcda06b077", func := "dragoman/dragomanlaw16.KscRows", spec := "kscRows", apart := false, narrowed := true }
def KscRowsUptoSaid : Prop := kscRowsUptoRow.holds Try.pinned (OpenSpec.upto kscRowsSpec)

/-- 'dragomanlaw16.KscBack', WHERE WHAT IT READS IS OF BULK AT MOST 1048576: true; the input reads as it did. -/
def kscBackUptoRow : OpenClaim := { program := "ytmaegmbpfilmhaa", sum := "63ca43039044b37f762fcbfec6ed59134de4bda420feadd6b9b029dcda06b077", func := "dragoman/dragomanlaw16.KscBack", spec := "kscBack", apart := false, narrowed := true }
def KscBackUptoSaid : Prop := kscBackUptoRow.holds Try.pinned (OpenSpec.upto kscBackSpec)

/-- 'dragomanlaw16.KscParts', WHERE WHAT IT READS IS OF BULK AT MOST 1048576: true; the input reads as it did. -/
def kscPartsUptoRow : OpenClaim := { program := "ytmaegmbpfilmhaa", sum := "63ca43039044b37f762fcbfec6ed59134de4bda420feadd6b9b029dcda06b077", func := "dragoman/dragomanlaw16.KscParts", spec := "kscParts", apart := false, narrowed := true }
def KscPartsUptoSaid : Prop := kscPartsUptoRow.holds Try.pinned (OpenSpec.upto kscPartsSpec)

/-- 'dragomanlaw16.KscHangul', WHERE WHAT IT READS IS OF BULK AT MOST 1048576: true; the input reads as it did. -/
def kscHangulUptoRow : OpenClaim := { program := "ytmaegmbpfilmhaa", sum := "63ca43039044b37f762fcbfec6ed59134de4bda420feadd6b9b029dcda06b077", func := "dragoman/dragomanlaw16.KscHangul", spec := "kscHangul", apart := false, narrowed := true }
def KscHangulUptoSaid : Prop := kscHangulUptoRow.holds Try.pinned (OpenSpec.upto kscHangulSpec)

end Rows
end Go.Proofs.Ytmaegmbpfilmhaa
