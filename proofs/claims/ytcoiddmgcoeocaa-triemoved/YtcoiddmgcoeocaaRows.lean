/-
  No cell of these rows narrows 'for every input' (looked for: loops, veiled, ifaces, maps, wideKeys, modest, calm, conditions, laid).
  DERIVED. THE GIVEN ROWS OF THIS SEAT. 4 by the template 'for every input the law returns true; each argument reads behind the call as it read before'; 0 by the template 'total and deterministic' (their statements: YtcoiddmgcoeocaaTotals.lean).
  GIVEN WITH THE SEED: the statements are not yours to turn. If you find one false, say at which input.
  Laid BY PROGRAM, IN A SANDBOX (cutbox-rows.mjs): the forced cells as the released guide's own fill.sh prints them over the translation 9d71f746caddf1c7… (all of the seat's roots in one cut). By AI agents, Wed Nov 11 2026. No macro, syntax, notation, axiom, sorry.
-/
import Derived.Test.YtcoiddmgcoeocaaChecked
import GoSem.Claim
import GoSem.ClaimJoined
import GoSem.ClaimMapViews
import Derived.JoinedTies
import Derived.KernelRfl
namespace Go.Proofs.Ytcoiddmgcoeocaa
/- THE CELL 'sum', in the pinned program and in every row, IS THE sha256 OF THE DUMP (.gsa) THAT YtcoiddmgcoeocaaProg.lean LOADS. Nothing in Lean hashes anything: it is a label: what it is worth is what the hold of that sum in a sandbox is worth. -/
noncomputable def Try.pinned : Pinned := { name := "ytcoiddmgcoeocaa", sum := "9d71f746caddf1c7ad96f2ff0f88278d45036b6d39edb27b1bc514521b5d22de", checked := Try.checked }
namespace Rows
def none {H : Type} : Left H := { results := [], args := [] }

/-- 'dragomanlaw08.TrieTells': WHATEVER THE INPUT: true; the input reads as it did. -/
def trieTellsSpec : ChangeSpec := { name := "trieTells", fn := fun _ => fun
  | [d1, d2, d3] => { results := [.lit (.bool true)], args := [d1, d2, d3] }
  | _ => none }
def trieTellsRow : OpenClaim := { program := "ytcoiddmgcoeocaa", sum := "9d71f746caddf1c7ad96f2ff0f88278d45036b6d39edb27b1bc514521b5d22de", func := "dragoman/dragomanlaw08.TrieTells", spec := "trieTells", unfollowed := true, recurses := true, plainKeys := false, apart := false }
def TrieTellsSaid : Prop := trieTellsRow.holds Try.pinned (OpenSpec.ofChange trieTellsSpec)

/-- ITS FALSE NEIGHBOUR: 'it returns false'. Refute it at one input. -/
def trieTellsWrong : ChangeSpec := { name := "trieTells", fn := fun _ => fun
  | [d1, d2, d3] => { results := [.lit (.bool false)], args := [d1, d2, d3] }
  | _ => none }
def TrieTellsWrongFalsely : Prop := trieTellsRow.holds Try.pinned (OpenSpec.ofChange trieTellsWrong)

/-- 'dragomanlaw08.TrieAll': WHATEVER THE INPUT: true; the input reads as it did. -/
def trieAllSpec : ChangeSpec := { name := "trieAll", fn := fun _ => fun
  | [d1, d2] => { results := [.lit (.bool true)], args := [d1, d2] }
  | _ => none }
def trieAllRow : OpenClaim := { program := "ytcoiddmgcoeocaa", sum := "9d71f746caddf1c7ad96f2ff0f88278d45036b6d39edb27b1bc514521b5d22de", func := "dragoman/dragomanlaw08.TrieAll", spec := "trieAll", unfollowed := true, recurses := true, plainKeys := false, apart := false }
def TrieAllSaid : Prop := trieAllRow.holds Try.pinned (OpenSpec.ofChange trieAllSpec)

/-- ITS FALSE NEIGHBOUR: 'it returns false'. Refute it at one input. -/
def trieAllWrong : ChangeSpec := { name := "trieAll", fn := fun _ => fun
  | [d1, d2] => { results := [.lit (.bool false)], args := [d1, d2] }
  | _ => none }
def TrieAllWrongFalsely : Prop := trieAllRow.holds Try.pinned (OpenSpec.ofChange trieAllWrong)

/-- 'dragomanlaw08.TrieMoved': WHATEVER THE INPUT: true; the input reads as it did. -/
def trieMovedSpec : ChangeSpec := { name := "trieMoved", fn := fun _ => fun
  | [d1, d2] => { results := [.lit (.bool true)], args := [d1, d2] }
  | _ => none }
def trieMovedRow : OpenClaim := { program := "ytcoiddmgcoeocaa", sum := "9d71f746caddf1c7ad96f2ff0f88278d45036b6d39edb27b1bc514521b5d22de", func := "dragoman/dragomanlaw08.TrieMoved", spec := "trieMoved", unfollowed := true, recurses := true, plainKeys := false, apart := false }
def TrieMovedSaid : Prop := trieMovedRow.holds Try.pinned (OpenSpec.ofChange trieMovedSpec)

/-- ITS FALSE NEIGHBOUR: 'it returns false'. Refute it at one input. -/
def trieMovedWrong : ChangeSpec := { name := "trieMoved", fn := fun _ => fun
  | [d1, d2] => { results := [.lit (.bool false)], args := [d1, d2] }
  | _ => none }
def TrieMovedWrongFalsely : Prop := trieMovedRow.holds Try.pinned (OpenSpec.ofChange trieMovedWrong)

/-- 'dragomanlaw08.TrieOne': WHATEVER THE INPUT: true; the input reads as it did. -/
def trieOneSpec : ChangeSpec := { name := "trieOne", fn := fun _ => fun
  | [d1, d2, d3] => { results := [.lit (.bool true)], args := [d1, d2, d3] }
  | _ => none }
def trieOneRow : OpenClaim := { program := "ytcoiddmgcoeocaa", sum := "9d71f746caddf1c7ad96f2ff0f88278d45036b6d39edb27b1bc514521b5d22de", func := "dragoman/dragomanlaw08.TrieOne", spec := "trieOne", unfollowed := true, recurses := true, plainKeys := false, apart := false }
def TrieOneSaid : Prop := trieOneRow.holds Try.pinned (OpenSpec.ofChange trieOneSpec)

/-- ITS FALSE NEIGHBOUR: 'it returns false'. Refute it at one input. -/
def trieOneWrong : ChangeSpec := { name := "trieOne", fn := fun _ => fun
  | [d1, d2, d3] => { results := [.lit (.bool false)], args := [d1, d2, d3] }
  | _ => none }
def TrieOneWrongFalsely : Prop := trieOneRow.holds Try.pinned (OpenSpec.ofChange trieOneWrong)

/- THE SECOND FORM. 'bulk': how many values and letters a reading holds, each counted each time it is reached (what is shared counts as often as it is met; a slice's spare places count too). A statement '..UptoSaid' is the law's where the arguments, and the package variables that the reading takes, are together of bulk at most 1048576: NARROWER than '..Said'. Prove '..Said' where nothing that the law and all that it calls make is longer than what came in: it says more and counts as full. Else prove '..UptoSaid'. A law counts once. -/
mutual
def uptoBulk {H : Type} : DataW H → Nat
  | .lit (.string bytes) => bytes.length + 1
  | .lit _ => 1
  | .nil => 1
  | .ptr d => uptoBulk d + 1
  | .slice elems spare => uptoBulkAll elems + uptoBulkAll spare + 1
  | .agg parts => uptoBulkAll parts + 1
  | .iface _ d => uptoBulk d + 1
  | .map entries => uptoBulkEntries entries + 1
  | .held _ => 1
def uptoBulkAll {H : Type} : List (DataW H) → Nat
  | [] => 0
  | d :: r => uptoBulk d + uptoBulkAll r
def uptoBulkEntries {H : Type} : List (Lit × DataW H) → Nat
  | [] => 0
  | x :: r => uptoBulkEntry x + uptoBulkEntries r
def uptoBulkEntry {H : Type} : Lit × DataW H → Nat
  | (.string bytes, d) => bytes.length + uptoBulk d + 1
  | (_, d) => uptoBulk d + 1
 end
def uptoSmall : (H : Type) → List (DataW H) → Bool := fun _ ds => decide (uptoBulkAll ds ≤ 1048576)
def OpenSpec.upto (s : _root_.Go.ChangeSpec) : _root_.Go.OpenSpec := { _root_.Go.OpenSpec.ofChange s with cond := some uptoSmall }

/-- 'dragomanlaw08.TrieTells', WHERE WHAT IT READS IS OF BULK AT MOST 1048576: true; the input reads as it did. -/
def trieTellsUptoRow : OpenClaim := { program := "ytcoiddmgcoeocaa", sum := "9d71f746caddf1c7ad96f2ff0f88278d45036b6d39edb27b1bc514521b5d22de", func := "dragoman/dragomanlaw08.TrieTells", spec := "trieTells", unfollowed := true, recurses := true, plainKeys := false, apart := false, narrowed := true }
def TrieTellsUptoSaid : Prop := trieTellsUptoRow.holds Try.pinned (OpenSpec.upto trieTellsSpec)

/-- 'dragomanlaw08.TrieAll', WHERE WHAT IT READS IS OF BULK AT MOST 1048576: true; the input reads as it did. -/
def trieAllUptoRow : OpenClaim := { program := "ytcoiddmgcoeocaa", sum := "9d71f746caddf1c7ad96f2ff0f88278d45036b6d39edb27b1bc514521b5d22de", func := "dragoman/dragomanlaw08.TrieAll", spec := "trieAll", unfollowed := true, recurses := true, plainKeys := false, apart := false, narrowed := true }
def TrieAllUptoSaid : Prop := trieAllUptoRow.holds Try.pinned (OpenSpec.upto trieAllSpec)

/-- 'dragomanlaw08.TrieMoved', WHERE WHAT IT READS IS OF BULK AT MOST 1048576: true; the input reads as it did. -/
def trieMovedUptoRow : OpenClaim := { program := "ytcoiddmgcoeocaa", sum := "9d71f746caddf1c7ad96f2ff0f88278d45036b6d39edb27b1bc514521b5d22de", func := "dragoman/dragomanlaw08.TrieMoved", spec := "trieMoved", unfollowed := true, recurses := true, plainKeys := false, apart := false, narrowed := true }
def TrieMovedUptoSaid : Prop := trieMovedUptoRow.holds Try.pinned (OpenSpec.upto trieMovedSpec)

/-- 'dragomanlaw08.TrieOne', WHERE WHAT IT READS IS OF BULK AT MOST 1048576: true; the input reads as it did. -/
def trieOneUptoRow : OpenClaim := { program := "ytcoiddmgcoeocaa", sum := "9d71f746caddf1c7ad96f2ff0f88278d45036b6d39edb27b1bc514521b5d22de", func := "dragoman/dragomanlaw08.TrieOne", spec := "trieOne", unfollowed := true, recurses := true, plainKeys := false, apart := false, narrowed := true }
def TrieOneUptoSaid : Prop := trieOneUptoRow.holds Try.pinned (OpenSpec.upto trieOneSpec)

end Rows
end Go.Proofs.Ytcoiddmgcoeocaa
