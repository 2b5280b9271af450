/-
  No cell of these rows narrows 'for every input' (looked for: loops, veiled, ifaces, maps, wideKeys, modest, calm, conditions, laid).
  DERIVED. THE GIVEN ROWS OF THIS SEAT. 4 by the template 'for every input the law returns true; each argument reads behind the call as it read before'; 0 by the template 'total and deterministic' (their statements: YthdkialncnfflaaTotals.lean).
  GIVEN WITH THE SEED: the statements are not yours to turn. If you find one false, say at which input.
  Laid BY PROGRAM, IN A SANDBOX (cutbox-rows.mjs): the forced cells as the released guide's own fill.sh prints them over the translation 9418367ebe0e933d… (all of the seat's roots in one cut). By AI agents, Wed Nov 11 2026. No macro, syntax, notation, axiom, sorry.
-/
import Derived.Test.YthdkialncnfflaaChecked
import GoSem.Claim
import GoSem.ClaimJoined
import GoSem.ClaimMapViews
import Derived.JoinedTies
import Derived.KernelRfl
namespace Go.Proofs.Ythdkialncnfflaa
/- THE CELL 'sum', in the pinned program and in every row, IS THE sha256 OF THE DUMP (.gsa) THAT YthdkialncnfflaaProg.lean LOADS. Nothing in Lean hashes anything: it is a label: what it is worth is what the hold of that sum in a sandbox is worth. -/
noncomputable def Try.pinned : Pinned := { name := "ythdkialncnfflaa", sum := "9418367ebe0e933dc1b7c1cd0fdc7dd8b000080e56ece66eeb5194e40d887d4b", checked := Try.checked }
namespace Rows
def none {H : Type} : Left H := { results := [], args := [] }

/-- 'dragomanlaw15.GbTells': WHATEVER THE INPUT: true; the input reads as it did. -/
def gbTellsSpec : ChangeSpec := { name := "gbTells", fn := fun _ => fun
  | [d1, d2, d3] => { results := [.lit (.bool true)], args := [d1, d2, d3] }
  | _ => none }
def gbTellsRow : OpenClaim := { program := "ythdkialncnfflaa", sum := "9418367ebe0e933dc1b7c1cd0fdc7dd8b000080e56ece66eeb5194e40d887d4b", func := "dragoman/dragomanlaw15.GbTells", spec := "gbTells", apart := false }
def GbTellsSaid : Prop := gbTellsRow.holds Try.pinned (OpenSpec.ofChange gbTellsSpec)

/-- ITS FALSE NEIGHBOUR: 'it returns false'. Refute it at one input. -/
def gbTellsWrong : ChangeSpec := { name := "gbTells", fn := fun _ => fun
  | [d1, d2, d3] => { results := [.lit (.bool false)], args := [d1, d2, d3] }
  | _ => none }
def GbTellsWrongFalsely : Prop := gbTellsRow.holds Try.pinned (OpenSpec.ofChange gbTellsWrong)

/-- 'dragomanlaw15.GbRows': WHATEVER THE INPUT: true; the input reads as it did. -/
def gbRowsSpec : ChangeSpec := { name := "gbRows", fn := fun _ => fun
  | [d] => { results := [.lit (.bool true)], args := [d] }
  | _ => none }
def gbRowsRow : OpenClaim := { program := "ythdkialncnfflaa", sum := "9418367ebe0e933dc1b7c1cd0fdc7dd8b000080e56ece66eeb5194e40d887d4b", func := "dragoman/dragomanlaw15.GbRows", spec := "gbRows", apart := false }
def GbRowsSaid : Prop := gbRowsRow.holds Try.pinned (OpenSpec.ofChange gbRowsSpec)

/-- ITS FALSE NEIGHBOUR: 'it returns false'. Refute it at one input. -/
def gbRowsWrong : ChangeSpec := { name := "gbRows", fn := fun _ => fun
  | [d] => { results := [.lit (.bool false)], args := [d] }
  | _ => none }
def GbRowsWrongFalsely : Prop := gbRowsRow.holds Try.pinned (OpenSpec.ofChange gbRowsWrong)

/-- 'dragomanlaw15.GbBack': WHATEVER THE INPUT: true; the input reads as it did. -/
def gbBackSpec : ChangeSpec := { name := "gbBack", fn := fun _ => fun
  | [d1, d2] => { results := [.lit (.bool true)], args := [d1, d2] }
  | _ => none }
def gbBackRow : OpenClaim := { program := "ythdkialncnfflaa", sum := "9418367ebe0e933dc1b7c1cd0fdc7dd8b000080e56ece66eeb5194e40d887d4b", func := "dragoman/dragomanlaw15.GbBack", spec := "gbBack", apart := false }
def GbBackSaid : Prop := gbBackRow.holds Try.pinned (OpenSpec.ofChange gbBackSpec)

/-- ITS FALSE NEIGHBOUR: 'it returns false'. Refute it at one input. -/
def gbBackWrong : ChangeSpec := { name := "gbBack", fn := fun _ => fun
  | [d1, d2] => { results := [.lit (.bool false)], args := [d1, d2] }
  | _ => none }
def GbBackWrongFalsely : Prop := gbBackRow.holds Try.pinned (OpenSpec.ofChange gbBackWrong)

/-- 'dragomanlaw15.GbKana': WHATEVER THE INPUT: true; the input reads as it did. -/
def gbKanaSpec : ChangeSpec := { name := "gbKana", fn := fun _ => fun
  | [d] => { results := [.lit (.bool true)], args := [d] }
  | _ => none }
def gbKanaRow : OpenClaim := { program := "ythdkialncnfflaa", sum := "9418367ebe0e933dc1b7c1cd0fdc7dd8b000080e56ece66eeb5194e40d887d4b", func := "dragoman/dragomanlaw15.GbKana", spec := "gbKana", apart := false }
def GbKanaSaid : Prop := gbKanaRow.holds Try.pinned (OpenSpec.ofChange gbKanaSpec)

/-- ITS FALSE NEIGHBOUR: 'it returns false'. Refute it at one input. -/
def gbKanaWrong : ChangeSpec := { name := "gbKana", fn := fun _ => fun
  | [d] => { results := [.lit (.bool false)], args := [d] }
  | _ => none }
def GbKanaWrongFalsely : Prop := gbKanaRow.holds Try.pinned (OpenSpec.ofChange gbKanaWrong)

/- THE SECOND FORM. 'bulk': how many values and letters a reading holds, each counted each time it is reached (what is shared counts as often as it is met; a slice's spare places count too). A statement '..UptoSaid' is the law's where the arguments, and the package variables that the reading takes, are together of bulk at most 1048576: NARROWER than '..Said'. Prove '..Said' where nothing that the law and all that it calls make is longer than what came in: it says more and counts as full. Else prove '..UptoSaid'. A law counts once. -/
mutual
def uptoBulk {H : Type} : DataW H → Nat
  | .lit (.string bytes) => bytes.length + 1
  | .lit _ => 1
  | .nil => 1
  | .ptr d => uptoBulk d + 1
  | .slice elems spare => uptoBulkAll elems + uptoBulkAll spare + 1
  | .agg parts => uptoBulkAll parts + 1
  | .iface _ d => uptoBulk d + 1
  | .map entries => uptoBulkEntries entries + 1
  | .held _ => 1
def uptoBulkAll {H : Type} : List (DataW H) → Nat
  | [] => 0
  | d :: r => uptoBulk d + uptoBulkAll r
def uptoBulkEntries {H : Type} : List (Lit × DataW H) → Nat
  | [] => 0
  | x :: r => uptoBulkEntry x + uptoBulkEntries r
def uptoBulkEntry {H : Type} : Lit × DataW H → Nat
  | (.string bytes, d) => bytes.length + uptoBulk d + 1
  | (_, d) => uptoBulk d + 1
 end
def uptoSmall : (H : Type) → List (DataW H) → Bool := fun _ ds => decide (uptoBulkAll ds ≤ 1048576)
def OpenSpec.upto (s : _root_.Go.ChangeSpec) : _root_.Go.OpenSpec := { _root_.Go.OpenSpec.ofChange s with cond := some uptoSmall }

/-- 'dragomanlaw15.GbTells', WHERE WHAT IT READS IS OF BULK AT MOST 1048576: true; the input reads as it did. -/
def gbTellsUptoRow : OpenClaim := { program := "ythdkialncnfflaa", sum := "9418367ebe0e933dc1b7c1cd0fdc7dd8b000080e56ece66eeb5194e40d887d4b", func := "dragoman/dragomanlaw15.GbTells", spec := "gbTells", apart := false, narrowed := true }
def GbTellsUptoSaid : Prop := gbTellsUptoRow.holds Try.pinned (OpenSpec.upto gbTellsSpec)

/-- 'dragomanlaw15.GbRows', WHERE WHAT IT READS IS OF BULK AT MOST 1048576: true; the input reads as it did. -/
def gbRowsUptoRow : OpenClaim := { program := "ythdkialncnfflaa", sum := "9418367ebe0e933dc1b7c1cd0fdc7dd8b000080e56ece66eeb5194e40d887d4b", func := "dragoman/dragomanlaw15.GbRows", spec := "gbRows", apart := false, narrowed := true }
def GbRowsUptoSaid : Prop := gbRowsUptoRow.holds Try.pinned (OpenSpec.upto gbRowsSpec)

/-- 'dragomanlaw15.GbBack', WHERE WHAT IT READS IS OF BULK AT MOST 1048576: true; the input reads as it did. -/
def gbBackUptoRow : OpenClaim := { program := "ythdkialncnfflaa", sum := "9418367ebe0e933dc1b7c1cd0fdc7dd8b000080e56ece66eeb5194e40d887d4b", func := "dragoman/dragomanlaw15.GbBack", spec := "gbBack", apart := false, narrowed := true }
def GbBackUptoSaid : Prop := gbBackUptoRow.holds Try.pinned (OpenSpec.upto gbBackSpec)

/-- 'dragomanlaw15.GbKana', WHERE WHAT IT READS IS OF BULK AT MOST 1048576: true; the input reads as it did. -/
def gbKanaUptoRow : OpenClaim := { program := "ythdkialncnfflaa", sum := "9418367ebe0e933dc1b7c1cd0fdc7dd8b000080e56ece66eeb5194e40d887d4b", func := "dragoman/dragomanlaw15.GbKana", spec := "gbKana", apart := false, narrowed := true }
def GbKanaUptoSaid : Prop := gbKanaUptoRow.holds Try.pinned (OpenSpec.upto gbKanaSpec)

end Rows
end Go.Proofs.Ythdkialncnfflaa
