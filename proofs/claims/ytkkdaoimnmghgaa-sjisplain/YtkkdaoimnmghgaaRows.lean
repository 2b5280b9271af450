/-
  No cell of these rows narrows 'for every input' (looked for: loops, veiled, ifaces, maps, wideKeys, modest, calm, conditions, laid).
  DERIVED. THE GIVEN ROWS OF THIS SEAT. 6 by the template 'for every input the law returns true; each argument reads behind the call as it read before'; 0 by the template 'total and deterministic' (their statements: YtkkdaoimnmghgaaTotals.lean).
  GIVEN WITH THE SEED: the statements are not yours to turn. If you find one false, say at which input.
  Laid BY PROGRAM, IN A SANDBOX (cutbox-rows.mjs): the forced cells as the released guide's own fill.sh prints them over the translation 22c7093597d4600f… (all of the seat's roots in one cut). By AI agents, Wed Nov 11 2026. No macro, syntax, notation, axiom, sorry.
-/
import Derived.Test.YtkkdaoimnmghgaaChecked
import GoSem.Claim
import GoSem.ClaimJoined
import GoSem.ClaimMapViews
import Derived.JoinedTies
import Derived.KernelRfl
namespace Go.Proofs.Ytkkdaoimnmghgaa
/- THE CELL 'sum', in the pinned program and in every row, IS THE sha256 OF THE DUMP (.gsa) THAT YtkkdaoimnmghgaaProg.lean LOADS. Nothing in Lean hashes anything: it is a label: what it is worth is what the hold of that sum in a sandbox is worth. -/
noncomputable def Try.pinned : Pinned := { name := "ytkkdaoimnmghgaa", sum := "22c7093597d4600fffa94d63ff61d31375c305fb3780cd0f0a2d150d9800c247", checked := Try.checked }
namespace Rows
def none {H : Type} : Left H := { results := [], args := [] }

/-- 'dragomanlaw18.SjisGets': WHATEVER THE INPUT: true; the input reads as it did. -/
def sjisGetsSpec : ChangeSpec := { name := "sjisGets", fn := fun _ => fun
  | [d] => { results := [.lit (.bool true)], args := [d] }
  | _ => none }
def sjisGetsRow : OpenClaim := { program := "ytkkdaoimnmghgaa", sum := "22c7093597d4600fffa94d63ff61d31375c305fb3780cd0f0a2d150d9800c247", func := "dragoman/dragomanlaw18.SjisGets", spec := "sjisGets", apart := false }
def SjisGetsSaid : Prop := sjisGetsRow.holds Try.pinned (OpenSpec.ofChange sjisGetsSpec)

/-- ITS FALSE NEIGHBOUR: 'it returns false'. Refute it at one input. -/
def sjisGetsWrong : ChangeSpec := { name := "sjisGets", fn := fun _ => fun
  | [d] => { results := [.lit (.bool false)], args := [d] }
  | _ => none }
def SjisGetsWrongFalsely : Prop := sjisGetsRow.holds Try.pinned (OpenSpec.ofChange sjisGetsWrong)

/-- 'dragomanlaw18.SjisSets': WHATEVER THE INPUT: true; the input reads as it did. -/
def sjisSetsSpec : ChangeSpec := { name := "sjisSets", fn := fun _ => fun
  | [d] => { results := [.lit (.bool true)], args := [d] }
  | _ => none }
def sjisSetsRow : OpenClaim := { program := "ytkkdaoimnmghgaa", sum := "22c7093597d4600fffa94d63ff61d31375c305fb3780cd0f0a2d150d9800c247", func := "dragoman/dragomanlaw18.SjisSets", spec := "sjisSets", apart := false }
def SjisSetsSaid : Prop := sjisSetsRow.holds Try.pinned (OpenSpec.ofChange sjisSetsSpec)

/-- ITS FALSE NEIGHBOUR: 'it returns false'. Refute it at one input. -/
def sjisSetsWrong : ChangeSpec := { name := "sjisSets", fn := fun _ => fun
  | [d] => { results := [.lit (.bool false)], args := [d] }
  | _ => none }
def SjisSetsWrongFalsely : Prop := sjisSetsRow.holds Try.pinned (OpenSpec.ofChange sjisSetsWrong)

/-- 'dragomanlaw18.SjisPacks': WHATEVER THE INPUT: true; the input reads as it did. -/
def sjisPacksSpec : ChangeSpec := { name := "sjisPacks", fn := fun _ => fun
  | [d1, d2, d3, d4] => { results := [.lit (.bool true)], args := [d1, d2, d3, d4] }
  | _ => none }
def sjisPacksRow : OpenClaim := { program := "ytkkdaoimnmghgaa", sum := "22c7093597d4600fffa94d63ff61d31375c305fb3780cd0f0a2d150d9800c247", func := "dragoman/dragomanlaw18.SjisPacks", spec := "sjisPacks", apart := false }
def SjisPacksSaid : Prop := sjisPacksRow.holds Try.pinned (OpenSpec.ofChange sjisPacksSpec)

/-- ITS FALSE NEIGHBOUR: 'it returns false'. Refute it at one input. -/
def sjisPacksWrong : ChangeSpec := { name := "sjisPacks", fn := fun _ => fun
  | [d1, d2, d3, d4] => { results := [.lit (.bool false)], args := [d1, d2, d3, d4] }
  | _ => none }
def SjisPacksWrongFalsely : Prop := sjisPacksRow.holds Try.pinned (OpenSpec.ofChange sjisPacksWrong)

/-- 'dragomanlaw18.SjisAll': WHATEVER THE INPUT: true; the input reads as it did. -/
def sjisAllSpec : ChangeSpec := { name := "sjisAll", fn := fun _ => fun
  | [d1, d2] => { results := [.lit (.bool true)], args := [d1, d2] }
  | _ => none }
def sjisAllRow : OpenClaim := { program := "ytkkdaoimnmghgaa", sum := "22c7093597d4600fffa94d63ff61d31375c305fb3780cd0f0a2d150d9800c247", func := "dragoman/dragomanlaw18.SjisAll", spec := "sjisAll", apart := false }
def SjisAllSaid : Prop := sjisAllRow.holds Try.pinned (OpenSpec.ofChange sjisAllSpec)

/-- ITS FALSE NEIGHBOUR: 'it returns false'. Refute it at one input. -/
def sjisAllWrong : ChangeSpec := { name := "sjisAll", fn := fun _ => fun
  | [d1, d2] => { results := [.lit (.bool false)], args := [d1, d2] }
  | _ => none }
def SjisAllWrongFalsely : Prop := sjisAllRow.holds Try.pinned (OpenSpec.ofChange sjisAllWrong)

/-- 'dragomanlaw18.SjisBack': WHATEVER THE INPUT: true; the input reads as it did. -/
def sjisBackSpec : ChangeSpec := { name := "sjisBack", fn := fun _ => fun
  | [d1, d2] => { results := [.lit (.bool true)], args := [d1, d2] }
  | _ => none }
def sjisBackRow : OpenClaim := { program := "ytkkdaoimnmghgaa", sum := "22c7093597d4600fffa94d63ff61d31375c305fb3780cd0f0a2d150d9800c247", func := "dragoman/dragomanlaw18.SjisBack", spec := "sjisBack", apart := false }
def SjisBackSaid : Prop := sjisBackRow.holds Try.pinned (OpenSpec.ofChange sjisBackSpec)

/-- ITS FALSE NEIGHBOUR: 'it returns false'. Refute it at one input. -/
def sjisBackWrong : ChangeSpec := { name := "sjisBack", fn := fun _ => fun
  | [d1, d2] => { results := [.lit (.bool false)], args := [d1, d2] }
  | _ => none }
def SjisBackWrongFalsely : Prop := sjisBackRow.holds Try.pinned (OpenSpec.ofChange sjisBackWrong)

/-- 'dragomanlaw18.SjisPlain': WHATEVER THE INPUT: true; the input reads as it did. -/
def sjisPlainSpec : ChangeSpec := { name := "sjisPlain", fn := fun _ => fun
  | [d1, d2] => { results := [.lit (.bool true)], args := [d1, d2] }
  | _ => none }
def sjisPlainRow : OpenClaim := { program := "ytkkdaoimnmghgaa", sum := "22c7093597d4600fffa94d63ff61d31375c305fb3780cd0f0a2d150d9800c247", func := "dragoman/dragomanlaw18.SjisPlain", spec := "sjisPlain", apart := false }
def SjisPlainSaid : Prop := sjisPlainRow.holds Try.pinned (OpenSpec.ofChange sjisPlainSpec)

/-- ITS FALSE NEIGHBOUR: 'it returns false'. Refute it at one input. -/
def sjisPlainWrong : ChangeSpec := { name := "sjisPlain", fn := fun _ => fun
  | [d1, d2] => { results := [.lit (.bool false)], args := [d1, d2] }
  | _ => none }
def SjisPlainWrongFalsely : Prop := sjisPlainRow.holds Try.pinned (OpenSpec.ofChange sjisPlainWrong)

/- THE SECOND FORM. 'bulk': how many values and letters a reading holds, each counted each time it is reached (what is shared counts as often as it is met; a slice's spare places count too). A statement '..UptoSaid' is the law's where the arguments, and the package variables that the reading takes, are together of bulk at most 1048576: NARROWER than '..Said'. Prove '..Said' where nothing that the law and all that it calls make is longer than what came in: it says more and counts as full. Else prove '..UptoSaid'. A law counts once. -/
mutual
def uptoBulk {H : Type} : DataW H → Nat
  | .lit (.string bytes) => bytes.length + 1
  | .lit _ => 1
  | .nil => 1
  | .ptr d => uptoBulk d + 1
  | .slice elems spare => uptoBulkAll elems + uptoBulkAll spare + 1
  | .agg parts => uptoBulkAll parts + 1
  | .iface _ d => uptoBulk d + 1
  | .map entries => uptoBulkEntries entries + 1
  | .held _ => 1
def uptoBulkAll {H : Type} : List (DataW H) → Nat
  | [] => 0
  | d :: r => uptoBulk d + uptoBulkAll r
def uptoBulkEntries {H : Type} : List (Lit × DataW H) → Nat
  | [] => 0
  | x :: r => uptoBulkEntry x + uptoBulkEntries r
def uptoBulkEntry {H : Type} : Lit × DataW H → Nat
  | (.string bytes, d) => bytes.length + uptoBulk d + 1
  | (_, d) => uptoBulk d + 1
 end
def uptoSmall : (H : Type) → List (DataW H) → Bool := fun _ ds => decide (uptoBulkAll ds ≤ 1048576)
def OpenSpec.upto (s : _root_.Go.ChangeSpec) : _root_.Go.OpenSpec := { _root_.Go.OpenSpec.ofChange s with cond := some uptoSmall }

/-- 'dragomanlaw18.SjisGets', WHERE WHAT IT READS IS OF BULK AT MOST 1048576: true; the input reads as it did. -/
def sjisGetsUptoRow : OpenClaim := { program := "ytkkdaoimnmghgaa", sum := "22c7093597d4600fffa94d63ff61d31375c305fb3780cd0f0a2d150d9800c247", func := "dragoman/dragomanlaw18.SjisGets", spec := "sjisGets", apart := false, narrowed := true }
def SjisGetsUptoSaid : Prop := sjisGetsUptoRow.holds Try.pinned (OpenSpec.upto sjisGetsSpec)

/-- 'dragomanlaw18.SjisSets', WHERE WHAT IT READS IS OF BULK AT MOST 1048576: true; the input reads as it did. -/
def sjisSetsUptoRow : OpenClaim := { program := "ytkkdaoimnmghgaa", sum := "22c7093597d4600fffa94d63ff61d31375c305fb3780cd0f0a2d150d9800c247", func := "dragoman/dragomanlaw18.SjisSets", spec := "sjisSets", apart := false, narrowed := true }
def SjisSetsUptoSaid : Prop := sjisSetsUptoRow.holds Try.pinned (OpenSpec.upto sjisSetsSpec)

/-- 'dragomanlaw18.SjisPacks', WHERE WHAT IT READS IS OF BULK AT MOST 1048576: true; the input reads as it did. -/
def sjisPacksUptoRow : OpenClaim := { program := "ytkkdaoimnmghgaa", sum := "22c7093597d4600fffa94d63ff61d31375c305fb3780cd0f0a2d150d9800c247", func := "dragoman/dragomanlaw18.SjisPacks", spec := "sjisPacks", apart := false, narrowed := true }
def SjisPacksUptoSaid : Prop := sjisPacksUptoRow.holds Try.pinned (OpenSpec.upto sjisPacksSpec)

/-- 'dragomanlaw18.SjisAll', WHERE WHAT IT READS IS OF BULK AT MOST 1048576: true; the input reads as it did. -/
def sjisAllUptoRow : OpenClaim := { program := "ytkkdaoimnmghgaa", sum := "22c7093597d4600fffa94d63ff61d31375c305fb3780cd0f0a2d150d9800c247", func := "dragoman/dragomanlaw18.SjisAll", spec := "sjisAll", apart := false, narrowed := true }
def SjisAllUptoSaid : Prop := sjisAllUptoRow.holds Try.pinned (OpenSpec.upto sjisAllSpec)

/-- 'dragomanlaw18.SjisBack', WHERE WHAT IT READS IS OF BULK AT MOST 1048576: true; the input reads as it did. -/
def sjisBackUptoRow : OpenClaim := { program := "ytkkdaoimnmghgaa", sum := "22c7093597d4600fffa94d63ff61d31375c305fb3780cd0f0a2d150d9800c247", func := "dragoman/dragomanlaw18.SjisBack", spec := "sjisBack", apart := false, narrowed := true }
def SjisBackUptoSaid : Prop := sjisBackUptoRow.holds Try.pinned (OpenSpec.upto sjisBackSpec)

/-- 'dragomanlaw18.SjisPlain', WHERE WHAT IT READS IS OF BULK AT MOST 1048576: true; the input reads as it did. -/
def sjisPlainUptoRow : OpenClaim := { program := "ytkkdaoimnmghgaa", sum := "22c7093597d4600fffa94d63ff61d31375c305fb3780cd0f0a2d150d9800c247", func := "dragoman/dragomanlaw18.SjisPlain", spec := "sjisPlain", apart := false, narrowed := true }
def SjisPlainUptoSaid : Prop := sjisPlainUptoRow.holds Try.pinned (OpenSpec.upto sjisPlainSpec)

end Rows
end Go.Proofs.Ytkkdaoimnmghgaa
