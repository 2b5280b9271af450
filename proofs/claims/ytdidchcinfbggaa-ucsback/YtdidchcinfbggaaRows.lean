/-
  No cell of these rows narrows 'for every input' (looked for: loops, veiled, ifaces, maps, wideKeys, modest, calm, conditions, laid).
  DERIVED. THE GIVEN ROWS OF THIS SEAT. 5 by the template 'for every input the law returns true; each argument reads behind the call as it read before'; 0 by the template 'total and deterministic' (their statements: YtdidchcinfbggaaTotals.lean).
  GIVEN WITH THE SEED: the statements are not yours to turn. If you find one false, say at which input.
  Laid BY PROGRAM, IN A SANDBOX (cutbox-rows.mjs): the forced cells as the released guide's own fill.sh prints them over the translation 80cef6947a4eb037… (all of the seat's roots in one cut). By AI agents, Wed Nov 11 2026. No macro, syntax, notation, axiom, sorry.
-/
import Derived.Test.YtdidchcinfbggaaChecked
import GoSem.Claim
import GoSem.ClaimJoined
import GoSem.ClaimMapViews
import Derived.JoinedTies
import Derived.KernelRfl
namespace Go.Proofs.Ytdidchcinfbggaa
/- THE CELL 'sum', in the pinned program and in every row, IS THE sha256 OF THE DUMP (.gsa) THAT YtdidchcinfbggaaProg.lean LOADS. Nothing in Lean hashes anything: it is a label: what it is worth is what the hold of that sum in a sandbox is worth. -/
noncomputable def Try.pinned : Pinned := { name := "ytdidchcinfbggaa", sum := "80cef6947a4eb0378eaa92682446b34fb3b959b6aca9d6416caf8c5b3e3a9ec6", checked := Try.checked }
namespace Rows
def none {H : Type} : Left H := { results := [], args := [] }

/-- 'dragomanlaw01.UcsTells': WHATEVER THE INPUT: true; the input reads as it did. -/
def ucsTellsSpec : ChangeSpec := { name := "ucsTells", fn := fun _ => fun
  | [d] => { results := [.lit (.bool true)], args := [d] }
  | _ => none }
def ucsTellsRow : OpenClaim := { program := "ytdidchcinfbggaa", sum := "80cef6947a4eb0378eaa92682446b34fb3b959b6aca9d6416caf8c5b3e3a9ec6", func := "dragoman/dragomanlaw01.UcsTells", spec := "ucsTells", apart := false }
def UcsTellsSaid : Prop := ucsTellsRow.holds Try.pinned (OpenSpec.ofChange ucsTellsSpec)

/-- ITS FALSE NEIGHBOUR: 'it returns false'. Refute it at one input. -/
def ucsTellsWrong : ChangeSpec := { name := "ucsTells", fn := fun _ => fun
  | [d] => { results := [.lit (.bool false)], args := [d] }
  | _ => none }
def UcsTellsWrongFalsely : Prop := ucsTellsRow.holds Try.pinned (OpenSpec.ofChange ucsTellsWrong)

/-- 'dragomanlaw01.UcsJoins': WHATEVER THE INPUT: true; the input reads as it did. -/
def ucsJoinsSpec : ChangeSpec := { name := "ucsJoins", fn := fun _ => fun
  | [d1, d2, d3] => { results := [.lit (.bool true)], args := [d1, d2, d3] }
  | _ => none }
def ucsJoinsRow : OpenClaim := { program := "ytdidchcinfbggaa", sum := "80cef6947a4eb0378eaa92682446b34fb3b959b6aca9d6416caf8c5b3e3a9ec6", func := "dragoman/dragomanlaw01.UcsJoins", spec := "ucsJoins", apart := false }
def UcsJoinsSaid : Prop := ucsJoinsRow.holds Try.pinned (OpenSpec.ofChange ucsJoinsSpec)

/-- ITS FALSE NEIGHBOUR: 'it returns false'. Refute it at one input. -/
def ucsJoinsWrong : ChangeSpec := { name := "ucsJoins", fn := fun _ => fun
  | [d1, d2, d3] => { results := [.lit (.bool false)], args := [d1, d2, d3] }
  | _ => none }
def UcsJoinsWrongFalsely : Prop := ucsJoinsRow.holds Try.pinned (OpenSpec.ofChange ucsJoinsWrong)

/-- 'dragomanlaw01.UcsBack': WHATEVER THE INPUT: true; the input reads as it did. -/
def ucsBackSpec : ChangeSpec := { name := "ucsBack", fn := fun _ => fun
  | [d1, d2] => { results := [.lit (.bool true)], args := [d1, d2] }
  | _ => none }
def ucsBackRow : OpenClaim := { program := "ytdidchcinfbggaa", sum := "80cef6947a4eb0378eaa92682446b34fb3b959b6aca9d6416caf8c5b3e3a9ec6", func := "dragoman/dragomanlaw01.UcsBack", spec := "ucsBack", apart := false }
def UcsBackSaid : Prop := ucsBackRow.holds Try.pinned (OpenSpec.ofChange ucsBackSpec)

/-- ITS FALSE NEIGHBOUR: 'it returns false'. Refute it at one input. -/
def ucsBackWrong : ChangeSpec := { name := "ucsBack", fn := fun _ => fun
  | [d1, d2] => { results := [.lit (.bool false)], args := [d1, d2] }
  | _ => none }
def UcsBackWrongFalsely : Prop := ucsBackRow.holds Try.pinned (OpenSpec.ofChange ucsBackWrong)

/-- 'dragomanlaw01.UcsApart': WHATEVER THE INPUT: true; the input reads as it did. -/
def ucsApartSpec : ChangeSpec := { name := "ucsApart", fn := fun _ => fun
  | [d1, d2] => { results := [.lit (.bool true)], args := [d1, d2] }
  | _ => none }
def ucsApartRow : OpenClaim := { program := "ytdidchcinfbggaa", sum := "80cef6947a4eb0378eaa92682446b34fb3b959b6aca9d6416caf8c5b3e3a9ec6", func := "dragoman/dragomanlaw01.UcsApart", spec := "ucsApart", apart := false }
def UcsApartSaid : Prop := ucsApartRow.holds Try.pinned (OpenSpec.ofChange ucsApartSpec)

/-- ITS FALSE NEIGHBOUR: 'it returns false'. Refute it at one input. -/
def ucsApartWrong : ChangeSpec := { name := "ucsApart", fn := fun _ => fun
  | [d1, d2] => { results := [.lit (.bool false)], args := [d1, d2] }
  | _ => none }
def UcsApartWrongFalsely : Prop := ucsApartRow.holds Try.pinned (OpenSpec.ofChange ucsApartWrong)

/-- 'dragomanlaw01.UcsPlanes': WHATEVER THE INPUT: true; the input reads as it did. -/
def ucsPlanesSpec : ChangeSpec := { name := "ucsPlanes", fn := fun _ => fun
  | [d1, d2, d3, d4] => { results := [.lit (.bool true)], args := [d1, d2, d3, d4] }
  | _ => none }
def ucsPlanesRow : OpenClaim := { program := "ytdidchcinfbggaa", sum := "80cef6947a4eb0378eaa92682446b34fb3b959b6aca9d6416caf8c5b3e3a9ec6", func := "dragoman/dragomanlaw01.UcsPlanes", spec := "ucsPlanes", apart := false }
def UcsPlanesSaid : Prop := ucsPlanesRow.holds Try.pinned (OpenSpec.ofChange ucsPlanesSpec)

/-- ITS FALSE NEIGHBOUR: 'it returns false'. Refute it at one input. -/
def ucsPlanesWrong : ChangeSpec := { name := "ucsPlanes", fn := fun _ => fun
  | [d1, d2, d3, d4] => { results := [.lit (.bool false)], args := [d1, d2, d3, d4] }
  | _ => none }
def UcsPlanesWrongFalsely : Prop := ucsPlanesRow.holds Try.pinned (OpenSpec.ofChange ucsPlanesWrong)

/- THE SECOND FORM. 'bulk': how many values and letters a reading holds, each counted each time it is reached (what is shared counts as often as it is met; a slice's spare places count too). A statement '..UptoSaid' is the law's where the arguments, and the package variables that the reading takes, are together of bulk at most 1048576: NARROWER than '..Said'. Prove '..Said' where nothing that the law and all that it calls make is longer than what came in: it says more and counts as full. Else prove '..UptoSaid'. A law counts once. -/
mutual
def uptoBulk {H : Type} : DataW H → Nat
  | .lit (.string bytes) => bytes.length + 1
  | .lit _ => 1
  | .nil => 1
  | .ptr d => uptoBulk d + 1
  | .slice elems spare => uptoBulkAll elems + uptoBulkAll spare + 1
  | .agg parts => uptoBulkAll parts + 1
  | .iface _ d => uptoBulk d + 1
  | .map entries => uptoBulkEntries entries + 1
  | .held _ => 1
def uptoBulkAll {H : Type} : List (DataW H) → Nat
  | [] => 0
  | d :: r => uptoBulk d + uptoBulkAll r
def uptoBulkEntries {H : Type} : List (Lit × DataW H) → Nat
  | [] => 0
  | x :: r => uptoBulkEntry x + uptoBulkEntries r
def uptoBulkEntry {H : Type} : Lit × DataW H → Nat
  | (.string bytes, d) => bytes.length + uptoBulk d + 1
  | (_, d) => uptoBulk d + 1
 end
def uptoSmall : (H : Type) → List (DataW H) → Bool := fun _ ds => decide (uptoBulkAll ds ≤ 1048576)
def OpenSpec.upto (s : _root_.Go.ChangeSpec) : _root_.Go.OpenSpec := { _root_.Go.OpenSpec.ofChange s with cond := some uptoSmall }

/-- 'dragomanlaw01.UcsTells', WHERE WHAT IT READS IS OF BULK AT MOST 1048576: true; the input reads as it did. -/
def ucsTellsUptoRow : OpenClaim := { program := "ytdidchcinfbggaa", sum := "80cef6947a4eb0378eaa92682446b34fb3b959b6aca9d6416caf8c5b3e3a9ec6", func := "dragoman/dragomanlaw01.UcsTells", spec := "ucsTells", apart := false, narrowed := true }
def UcsTellsUptoSaid : Prop := ucsTellsUptoRow.holds Try.pinned (OpenSpec.upto ucsTellsSpec)

/-- 'dragomanlaw01.UcsJoins', WHERE WHAT IT READS IS OF BULK AT MOST 1048576: true; the input reads as it did. -/
def ucsJoinsUptoRow : OpenClaim := { program := "ytdidchcinfbggaa", sum := "80cef6947a4eb0378eaa92682446b34fb3b959b6aca9d6416caf8c5b3e3a9ec6", func := "dragoman/dragomanlaw01.UcsJoins", spec := "ucsJoins", apart := false, narrowed := true }
def UcsJoinsUptoSaid : Prop := ucsJoinsUptoRow.holds Try.pinned (OpenSpec.upto ucsJoinsSpec)

/-- 'dragomanlaw01.UcsBack', WHERE WHAT IT READS IS OF BULK AT MOST 1048576: true; the input reads as it did. -/
def ucsBackUptoRow : OpenClaim := { program := "ytdidchcinfbggaa", sum := "80cef6947a4eb0378eaa92682446b34fb3b959b6aca9d6416caf8c5b3e3a9ec6", func := "dragoman/dragomanlaw01.UcsBack", spec := "ucsBack", apart := false, narrowed := true }
def UcsBackUptoSaid : Prop := ucsBackUptoRow.holds Try.pinned (OpenSpec.upto ucsBackSpec)

/-- 'dragomanlaw01.UcsApart', WHERE WHAT IT READS IS OF BULK AT MOST 1048576: true; the input reads as it did. -/
def ucsApartUptoRow : OpenClaim := { program := "ytdidchcinfbggaa", sum := "80cef6947a4eb0378eaa92682446b34fb3b959b6aca9d6416caf8c5b3e3a9ec6", func := "dragoman/dragomanlaw01.UcsApart", spec := "ucsApart", apart := false, narrowed := true }
def UcsApartUptoSaid : Prop := ucsApartUptoRow.holds Try.pinned (OpenSpec.upto ucsApartSpec)

/-- 'dragomanlaw01.UcsPlanes', WHERE WHAT IT READS IS OF BULK AT MOST 1048576: true; the input reads as it did. -/
def ucsPlanesUptoRow : OpenClaim := { program := "ytdidchcinfbggaa", sum := "80cef6947a4eb0378eaa92682446b34fb3b959b6aca9d6416caf8c5b3e3a9ec6", func := "dragoman/dragomanlaw01.UcsPlanes", spec := "ucsPlanes", apart := false, narrowed := true }
def UcsPlanesUptoSaid : Prop := ucsPlanesUptoRow.holds Try.pinned (OpenSpec.upto ucsPlanesSpec)

end Rows
end Go.Proofs.Ytdidchcinfbggaa
