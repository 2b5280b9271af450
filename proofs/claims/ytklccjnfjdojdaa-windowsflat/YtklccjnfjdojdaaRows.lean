/-
  No cell of these rows narrows 'for every input' (looked for: loops, veiled, ifaces, maps, wideKeys, modest, calm, conditions, laid).
  DERIVED. THE GIVEN ROWS OF THIS SEAT. 4 by the template 'for every input the law returns true; each argument reads behind the call as it read before'; 0 by the template 'total and deterministic' (their statements: YtklccjnfjdojdaaTotals.lean).
  GIVEN WITH THE SEED: the statements are not yours to turn. If you find one false, say at which input.
  Laid BY PROGRAM, IN A SANDBOX (cutbox-rows.mjs): the forced cells as the released guide's own fill.sh prints them over the translation 6580f2d58047c262… (all of the seat's roots in one cut). By AI agents, Wed Nov 11 2026. No macro, syntax, notation, axiom, sorry.
-/
import Derived.Test.YtklccjnfjdojdaaChecked
import GoSem.Claim
import GoSem.ClaimJoined
import GoSem.ClaimMapViews
import Derived.JoinedTies
import Derived.KernelRfl
namespace Go.Proofs.Ytklccjnfjdojdaa
/- THE CELL 'sum', in the pinned program and in every row, IS THE sha256 OF THE DUMP (.gsa) THAT YtklccjnfjdojdaaProg.lean LOADS. Nothing in Lean hashes anything: it is a label: what it is worth is what the hold of that sum in a sandbox is worth. -/
noncomputable def Try.pinned : Pinned := { name := "ytklccjnfjdojdaa", sum := "6580f2d58047c26273ec42f22e7505427bac55a64f1ed4f2877c44f9cde28b04", checked := Try.checked }
namespace Rows
def none {H : Type} : Left H := { results := [], args := [] }

/-- 'dragomanlaw10.WindowsTells': WHATEVER THE INPUT: true; the input reads as it did. -/
def windowsTellsSpec : ChangeSpec := { name := "windowsTells", fn := fun _ => fun
  | [d1, d2, d3] => { results := [.lit (.bool true)], args := [d1, d2, d3] }
  | _ => none }
def windowsTellsRow : OpenClaim := { program := "ytklccjnfjdojdaa", sum := "6580f2d58047c26273ec42f22e7505427bac55a64f1ed4f2877c44f9cde28b04", func := "dragoman/dragomanlaw10.WindowsTells", spec := "windowsTells", apart := false }
def WindowsTellsSaid : Prop := windowsTellsRow.holds Try.pinned (OpenSpec.ofChange windowsTellsSpec)

/-- ITS FALSE NEIGHBOUR: 'it returns false'. Refute it at one input. -/
def windowsTellsWrong : ChangeSpec := { name := "windowsTells", fn := fun _ => fun
  | [d1, d2, d3] => { results := [.lit (.bool false)], args := [d1, d2, d3] }
  | _ => none }
def WindowsTellsWrongFalsely : Prop := windowsTellsRow.holds Try.pinned (OpenSpec.ofChange windowsTellsWrong)

/-- 'dragomanlaw10.WindowsFlat': WHATEVER THE INPUT: true; the input reads as it did. -/
def windowsFlatSpec : ChangeSpec := { name := "windowsFlat", fn := fun _ => fun
  | [d] => { results := [.lit (.bool true)], args := [d] }
  | _ => none }
def windowsFlatRow : OpenClaim := { program := "ytklccjnfjdojdaa", sum := "6580f2d58047c26273ec42f22e7505427bac55a64f1ed4f2877c44f9cde28b04", func := "dragoman/dragomanlaw10.WindowsFlat", spec := "windowsFlat", apart := false }
def WindowsFlatSaid : Prop := windowsFlatRow.holds Try.pinned (OpenSpec.ofChange windowsFlatSpec)

/-- ITS FALSE NEIGHBOUR: 'it returns false'. Refute it at one input. -/
def windowsFlatWrong : ChangeSpec := { name := "windowsFlat", fn := fun _ => fun
  | [d] => { results := [.lit (.bool false)], args := [d] }
  | _ => none }
def WindowsFlatWrongFalsely : Prop := windowsFlatRow.holds Try.pinned (OpenSpec.ofChange windowsFlatWrong)

/-- 'dragomanlaw10.WindowsBack': WHATEVER THE INPUT: true; the input reads as it did. -/
def windowsBackSpec : ChangeSpec := { name := "windowsBack", fn := fun _ => fun
  | [d1, d2] => { results := [.lit (.bool true)], args := [d1, d2] }
  | _ => none }
def windowsBackRow : OpenClaim := { program := "ytklccjnfjdojdaa", sum := "6580f2d58047c26273ec42f22e7505427bac55a64f1ed4f2877c44f9cde28b04", func := "dragoman/dragomanlaw10.WindowsBack", spec := "windowsBack", apart := false }
def WindowsBackSaid : Prop := windowsBackRow.holds Try.pinned (OpenSpec.ofChange windowsBackSpec)

/-- ITS FALSE NEIGHBOUR: 'it returns false'. Refute it at one input. -/
def windowsBackWrong : ChangeSpec := { name := "windowsBack", fn := fun _ => fun
  | [d1, d2] => { results := [.lit (.bool false)], args := [d1, d2] }
  | _ => none }
def WindowsBackWrongFalsely : Prop := windowsBackRow.holds Try.pinned (OpenSpec.ofChange windowsBackWrong)

/-- 'dragomanlaw10.WindowsPlain': WHATEVER THE INPUT: true; the input reads as it did. -/
def windowsPlainSpec : ChangeSpec := { name := "windowsPlain", fn := fun _ => fun
  | [d1, d2, d3] => { results := [.lit (.bool true)], args := [d1, d2, d3] }
  | _ => none }
def windowsPlainRow : OpenClaim := { program := "ytklccjnfjdojdaa", sum := "6580f2d58047c26273ec42f22e7505427bac55a64f1ed4f2877c44f9cde28b04", func := "dragoman/dragomanlaw10.WindowsPlain", spec := "windowsPlain", apart := false }
def WindowsPlainSaid : Prop := windowsPlainRow.holds Try.pinned (OpenSpec.ofChange windowsPlainSpec)

/-- ITS FALSE NEIGHBOUR: 'it returns false'. Refute it at one input. -/
def windowsPlainWrong : ChangeSpec := { name := "windowsPlain", fn := fun _ => fun
  | [d1, d2, d3] => { results := [.lit (.bool false)], args := [d1, d2, d3] }
  | _ => none }
def WindowsPlainWrongFalsely : Prop := windowsPlainRow.holds Try.pinned (OpenSpec.ofChange windowsPlainWrong)

/- THE SECOND FORM. 'bulk': how many values and letters a reading holds, each counted each time it is reached (what is shared counts as often as it is met; a slice's spare places count too). A statement '..UptoSaid' is the law's where the arguments, and the package variables that the reading takes, are together of bulk at most 1048576: NARROWER than '..Said'. Prove '..Said' where nothing that the law and all that it calls make is longer than what came in: it says more and counts as full. Else prove '..UptoSaid'. A law counts once. -/
mutual
def uptoBulk {H : Type} : DataW H → Nat
  | .lit (.string bytes) => bytes.length + 1
  | .lit _ => 1
  | .nil => 1
  | .ptr d => uptoBulk d + 1
  | .slice elems spare => uptoBulkAll elems + uptoBulkAll spare + 1
  | .agg parts => uptoBulkAll parts + 1
  | .iface _ d => uptoBulk d + 1
  | .map entries => uptoBulkEntries entries + 1
  | .held _ => 1
def uptoBulkAll {H : Type} : List (DataW H) → Nat
  | [] => 0
  | d :: r => uptoBulk d + uptoBulkAll r
def uptoBulkEntries {H : Type} : List (Lit × DataW H) → Nat
  | [] => 0
  | x :: r => uptoBulkEntry x + uptoBulkEntries r
def uptoBulkEntry {H : Type} : Lit × DataW H → Nat
  | (.string bytes, d) => bytes.length + uptoBulk d + 1
  | (_, d) => uptoBulk d + 1
 end
def uptoSmall : (H : Type) → List (DataW H) → Bool := fun _ ds => decide (uptoBulkAll ds ≤ 1048576)
def OpenSpec.upto (s : _root_.Go.ChangeSpec) : _root_.Go.OpenSpec := { _root_.Go.OpenSpec.ofChange s with cond := some uptoSmall }

/-- 'dragomanlaw10.WindowsTells', WHERE WHAT IT READS IS OF BULK AT MOST 1048576: true; the input reads as it did. -/
def windowsTellsUptoRow : OpenClaim := { program := "ytklccjnfjdojdaa", sum := "6580f2d58047c26273ec42f22e7505427bac55a64f1ed4f2877c44f9cde28b04", func := "dragoman/dragomanlaw10.WindowsTells", spec := "windowsTells", apart := false, narrowed := true }
def WindowsTellsUptoSaid : Prop := windowsTellsUptoRow.holds Try.pinned (OpenSpec.upto windowsTellsSpec)

/-- 'dragomanlaw10.WindowsFlat', WHERE WHAT IT READS IS OF BULK AT MOST 1048576: true; the input reads as it did. -/
def windowsFlatUptoRow : OpenClaim := { program := "ytklccjnfjdojdaa", sum := "6580f2d58047c26273ec42f22e7505427bac55a64f1ed4f2877c44f9cde28b04", func := "dragoman/dragomanlaw10.WindowsFlat", spec := "windowsFlat", apart := false, narrowed := true }
def WindowsFlatUptoSaid : Prop := windowsFlatUptoRow.holds Try.pinned (OpenSpec.upto windowsFlatSpec)

/-- 'dragomanlaw10.WindowsBack', WHERE WHAT IT READS IS OF BULK AT MOST 1048576: true; the input reads as it did. -/
def windowsBackUptoRow : OpenClaim := { program := "ytklccjnfjdojdaa", sum := "6580f2d58047c26273ec42f22e7505427bac55a64f1ed4f2877c44f9cde28b04", func := "dragoman/dragomanlaw10.WindowsBack", spec := "windowsBack", apart := false, narrowed := true }
def WindowsBackUptoSaid : Prop := windowsBackUptoRow.holds Try.pinned (OpenSpec.upto windowsBackSpec)

/-- 'dragomanlaw10.WindowsPlain', WHERE WHAT IT READS IS OF BULK AT MOST 1048576: true; the input reads as it did. -/
def windowsPlainUptoRow : OpenClaim := { program := "ytklccjnfjdojdaa", sum := "6580f2d58047c26273ec42f22e7505427bac55a64f1ed4f2877c44f9cde28b04", func := "dragoman/dragomanlaw10.WindowsPlain", spec := "windowsPlain", apart := false, narrowed := true }
def WindowsPlainUptoSaid : Prop := windowsPlainUptoRow.holds Try.pinned (OpenSpec.upto windowsPlainSpec)

end Rows
end Go.Proofs.Ytklccjnfjdojdaa
