/-
  No cell of these rows narrows 'for every input' (looked for: loops, veiled, ifaces, maps, wideKeys, modest, calm, conditions, laid).
  DERIVED. THE GIVEN ROWS OF THIS SEAT. 5 by the template 'for every input the law returns true; each argument reads behind the call as it read before'; 0 by the template 'total and deterministic' (their statements: YtcbjkamjkaiofaaTotals.lean).
  GIVEN WITH THE SEED: the statements are not yours to turn. If you find one false, say at which input.
  Laid BY PROGRAM, IN A SANDBOX (cutbox-rows.mjs): the forced cells as the released guide's own fill.sh prints them over the translation f0401fb0c07f22a7… (all of the seat's roots in one cut). By AI agents, Wed Nov 11 2026. No macro, syntax, notation, axiom, sorry.
-/
import Derived.Test.YtcbjkamjkaiofaaChecked
import GoSem.Claim
import GoSem.ClaimJoined
import GoSem.ClaimMapViews
import Derived.JoinedTies
import Derived.KernelRfl
namespace Go.Proofs.Ytcbjkamjkaiofaa
/- THE CELL 'sum', in the pinned program and in every row, IS THE sha256 OF THE DUMP (.gsa) THAT YtcbjkamjkaiofaaProg.lean LOADS. Nothing in Lean hashes anything: it is a label: what it is worth is what the hold of that sum in a sandbox is worth. -/
noncomputable def Try.pinned : Pinned := { name := "ytcbjkamjkaiofaa", sum := "f0401fb0c07f22a727321bde776ecaf7986f24c31613ee4bbc8e06a233160c23", checked := Try.checked }
namespace Rows
def none {H : Type} : Left H := { results := [], args := [] }

/-- 'dragomanlaw17.EucGets': WHATEVER THE INPUT: true; the input reads as it did. -/
def eucGetsSpec : ChangeSpec := { name := "eucGets", fn := fun _ => fun
  | [d1, d2] => { results := [.lit (.bool true)], args := [d1, d2] }
  | _ => none }
def eucGetsRow : OpenClaim := { program := "ytcbjkamjkaiofaa", sum := "f0401fb0c07f22a727321bde776ecaf7986f24c31613ee4bbc8e06a233160c23", func := "dragoman/dragomanlaw17.EucGets", spec := "eucGets", unfollowed := true, recurses := true, apart := false }
def EucGetsSaid : Prop := eucGetsRow.holds Try.pinned (OpenSpec.ofChange eucGetsSpec)

/-- ITS FALSE NEIGHBOUR: 'it returns false'. Refute it at one input. -/
def eucGetsWrong : ChangeSpec := { name := "eucGets", fn := fun _ => fun
  | [d1, d2] => { results := [.lit (.bool false)], args := [d1, d2] }
  | _ => none }
def EucGetsWrongFalsely : Prop := eucGetsRow.holds Try.pinned (OpenSpec.ofChange eucGetsWrong)

/-- 'dragomanlaw17.EucSets': WHATEVER THE INPUT: true; the input reads as it did. -/
def eucSetsSpec : ChangeSpec := { name := "eucSets", fn := fun _ => fun
  | [d1, d2] => { results := [.lit (.bool true)], args := [d1, d2] }
  | _ => none }
def eucSetsRow : OpenClaim := { program := "ytcbjkamjkaiofaa", sum := "f0401fb0c07f22a727321bde776ecaf7986f24c31613ee4bbc8e06a233160c23", func := "dragoman/dragomanlaw17.EucSets", spec := "eucSets", unfollowed := true, recurses := true, apart := false }
def EucSetsSaid : Prop := eucSetsRow.holds Try.pinned (OpenSpec.ofChange eucSetsSpec)

/-- ITS FALSE NEIGHBOUR: 'it returns false'. Refute it at one input. -/
def eucSetsWrong : ChangeSpec := { name := "eucSets", fn := fun _ => fun
  | [d1, d2] => { results := [.lit (.bool false)], args := [d1, d2] }
  | _ => none }
def EucSetsWrongFalsely : Prop := eucSetsRow.holds Try.pinned (OpenSpec.ofChange eucSetsWrong)

/-- 'dragomanlaw17.EucBack': WHATEVER THE INPUT: true; the input reads as it did. -/
def eucBackSpec : ChangeSpec := { name := "eucBack", fn := fun _ => fun
  | [d1, d2, d3] => { results := [.lit (.bool true)], args := [d1, d2, d3] }
  | _ => none }
def eucBackRow : OpenClaim := { program := "ytcbjkamjkaiofaa", sum := "f0401fb0c07f22a727321bde776ecaf7986f24c31613ee4bbc8e06a233160c23", func := "dragoman/dragomanlaw17.EucBack", spec := "eucBack", unfollowed := true, recurses := true, apart := false }
def EucBackSaid : Prop := eucBackRow.holds Try.pinned (OpenSpec.ofChange eucBackSpec)

/-- ITS FALSE NEIGHBOUR: 'it returns false'. Refute it at one input. -/
def eucBackWrong : ChangeSpec := { name := "eucBack", fn := fun _ => fun
  | [d1, d2, d3] => { results := [.lit (.bool false)], args := [d1, d2, d3] }
  | _ => none }
def EucBackWrongFalsely : Prop := eucBackRow.holds Try.pinned (OpenSpec.ofChange eucBackWrong)

/-- 'dragomanlaw17.EucPairs': WHATEVER THE INPUT: true; the input reads as it did. -/
def eucPairsSpec : ChangeSpec := { name := "eucPairs", fn := fun _ => fun
  | [d1, d2] => { results := [.lit (.bool true)], args := [d1, d2] }
  | _ => none }
def eucPairsRow : OpenClaim := { program := "ytcbjkamjkaiofaa", sum := "f0401fb0c07f22a727321bde776ecaf7986f24c31613ee4bbc8e06a233160c23", func := "dragoman/dragomanlaw17.EucPairs", spec := "eucPairs", unfollowed := true, recurses := true, apart := false }
def EucPairsSaid : Prop := eucPairsRow.holds Try.pinned (OpenSpec.ofChange eucPairsSpec)

/-- ITS FALSE NEIGHBOUR: 'it returns false'. Refute it at one input. -/
def eucPairsWrong : ChangeSpec := { name := "eucPairs", fn := fun _ => fun
  | [d1, d2] => { results := [.lit (.bool false)], args := [d1, d2] }
  | _ => none }
def EucPairsWrongFalsely : Prop := eucPairsRow.holds Try.pinned (OpenSpec.ofChange eucPairsWrong)

/-- 'dragomanlaw17.EucPlain': WHATEVER THE INPUT: true; the input reads as it did. -/
def eucPlainSpec : ChangeSpec := { name := "eucPlain", fn := fun _ => fun
  | [d1, d2, d3] => { results := [.lit (.bool true)], args := [d1, d2, d3] }
  | _ => none }
def eucPlainRow : OpenClaim := { program := "ytcbjkamjkaiofaa", sum := "f0401fb0c07f22a727321bde776ecaf7986f24c31613ee4bbc8e06a233160c23", func := "dragoman/dragomanlaw17.EucPlain", spec := "eucPlain", unfollowed := true, recurses := true, apart := false }
def EucPlainSaid : Prop := eucPlainRow.holds Try.pinned (OpenSpec.ofChange eucPlainSpec)

/-- ITS FALSE NEIGHBOUR: 'it returns false'. Refute it at one input. -/
def eucPlainWrong : ChangeSpec := { name := "eucPlain", fn := fun _ => fun
  | [d1, d2, d3] => { results := [.lit (.bool false)], args := [d1, d2, d3] }
  | _ => none }
def EucPlainWrongFalsely : Prop := eucPlainRow.holds Try.pinned (OpenSpec.ofChange eucPlainWrong)

/- THE SECOND FORM. 'bulk': how many values and letters a reading holds, each counted each time it is reached (what is shared counts as often as it is met; a slice's spare places count too). A statement '..UptoSaid' is the law's where the arguments, and the package variables that the reading takes, are together of bulk at most 1048576: NARROWER than '..Said'. Prove '..Said' where nothing that the law and all that it calls make is longer than what came in: it says more and counts as full. Else prove '..UptoSaid'. A law counts once. -/
mutual
def uptoBulk {H : Type} : DataW H → Nat
  | .lit (.string bytes) => bytes.length + 1
  | .lit _ => 1
  | .nil => 1
  | .ptr d => uptoBulk d + 1
  | .slice elems spare => uptoBulkAll elems + uptoBulkAll spare + 1
  | .agg parts => uptoBulkAll parts + 1
  | .iface _ d => uptoBulk d + 1
  | .map entries => uptoBulkEntries entries + 1
  | .held _ => 1
def uptoBulkAll {H : Type} : List (DataW H) → Nat
  | [] => 0
  | d :: r => uptoBulk d + uptoBulkAll r
def uptoBulkEntries {H : Type} : List (Lit × DataW H) → Nat
  | [] => 0
  | x :: r => uptoBulkEntry x + uptoBulkEntries r
def uptoBulkEntry {H : Type} : Lit × DataW H → Nat
  | (.string bytes, d) => bytes.length + uptoBulk d + 1
  | (_, d) => uptoBulk d + 1
 end
def uptoSmall : (H : Type) → List (DataW H) → Bool := fun _ ds => decide (uptoBulkAll ds ≤ 1048576)
def OpenSpec.upto (s : _root_.Go.ChangeSpec) : _root_.Go.OpenSpec := { _root_.Go.OpenSpec.ofChange s with cond := some uptoSmall }

/-- 'dragomanlaw17.EucGets', WHERE WHAT IT READS IS OF BULK AT MOST 1048576: true; the input reads as it did. -/
def eucGetsUptoRow : OpenClaim := { program := "ytcbjkamjkaiofaa", sum := "f0401fb0c07f22a727321bde776ecaf7986f24c31613ee4bbc8e06a233160c23", func := "dragoman/dragomanlaw17.EucGets", spec := "eucGets", unfollowed := true, recurses := true, apart := false, narrowed := true }
def EucGetsUptoSaid : Prop := eucGetsUptoRow.holds Try.pinned (OpenSpec.upto eucGetsSpec)

/-- 'dragomanlaw17.EucSets', WHERE WHAT IT READS IS OF BULK AT MOST 1048576: true; the input reads as it did. -/
def eucSetsUptoRow : OpenClaim := { program := "ytcbjkamjkaiofaa", sum := "f0401fb0c07f22a727321bde776ecaf7986f24c31613ee4bbc8e06a233160c23", func := "dragoman/dragomanlaw17.EucSets", spec := "eucSets", unfollowed := true, recurses := true, apart := false, narrowed := true }
def EucSetsUptoSaid : Prop := eucSetsUptoRow.holds Try.pinned (OpenSpec.upto eucSetsSpec)

/-- 'dragomanlaw17.EucBack', WHERE WHAT IT READS IS OF BULK AT MOST 1048576: true; the input reads as it did. -/
def eucBackUptoRow : OpenClaim := { program := "ytcbjkamjkaiofaa", sum := "f0401fb0c07f22a727321bde776ecaf7986f24c31613ee4bbc8e06a233160c23", func := "dragoman/dragomanlaw17.EucBack", spec := "eucBack", unfollowed := true, recurses := true, apart := false, narrowed := true }
def EucBackUptoSaid : Prop := eucBackUptoRow.holds Try.pinned (OpenSpec.upto eucBackSpec)

/-- 'dragomanlaw17.EucPairs', WHERE WHAT IT READS IS OF BULK AT MOST 1048576: true; the input reads as it did. -/
def eucPairsUptoRow : OpenClaim := { program := "ytcbjkamjkaiofaa", sum := "f0401fb0c07f22a727321bde776ecaf7986f24c31613ee4bbc8e06a233160c23", func := "dragoman/dragomanlaw17.EucPairs", spec := "eucPairs", unfollowed := true, recurses := true, apart := false, narrowed := true }
def EucPairsUptoSaid : Prop := eucPairsUptoRow.holds Try.pinned (OpenSpec.upto eucPairsSpec)

/-- 'dragomanlaw17.EucPlain', WHERE WHAT IT READS IS OF BULK AT MOST 1048576: true; the input reads as it did. -/
def eucPlainUptoRow : OpenClaim := { program := "ytcbjkamjkaiofaa", sum := "f0401fb0c07f22a727321bde776ecaf7986f24c31613ee4bbc8e06a233160c23", func := "dragoman/dragomanlaw17.EucPlain", spec := "eucPlain", unfollowed := true, recurses := true, apart := false, narrowed := true }
def EucPlainUptoSaid : Prop := eucPlainUptoRow.holds Try.pinned (OpenSpec.upto eucPlainSpec)

end Rows
end Go.Proofs.Ytcbjkamjkaiofaa
