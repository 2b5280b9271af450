/-
  No cell of these rows narrows 'for every input' (looked for: loops, veiled, ifaces, maps, wideKeys, modest, calm, conditions, laid).
  DERIVED. THE GIVEN ROWS OF THIS SEAT. 6 by the template 'for every input the law returns true; each argument reads behind the call as it read before'; 0 by the template 'total and deterministic' (their statements: YtfehmbicolllkaaTotals.lean).
  GIVEN WITH THE SEED: the statements are not yours to turn. If you find one false, say at which input.
  Laid BY PROGRAM, IN A SANDBOX (cutbox-rows.mjs): the forced cells as the released guide's own fill.sh prints them over the translation a531314bf490cda3… (all of the seat's roots in one cut). By AI agents, Wed Nov 11 2026. No macro, syntax, notation, axiom, sorry.
-/
import Derived.Test.YtfehmbicolllkaaChecked
import GoSem.Claim
import GoSem.ClaimJoined
import GoSem.ClaimMapViews
import Derived.JoinedTies
import Derived.KernelRfl
namespace Go.Proofs.Ytfehmbicolllkaa
/- THE CELL 'sum', in the pinned program and in every row, IS THE sha256 OF THE DUMP (.gsa) THAT YtfehmbicolllkaaProg.lean LOADS. Nothing in Lean hashes anything: it is a label: what it is worth is what the hold of that sum in a sandbox is worth. -/
noncomputable def Try.pinned : Pinned := { name := "ytfehmbicolllkaa", sum := "a531314bf490cda3fb9ba6df129a1b681a3ae2eeab271ab1e58a457031098eca", checked := Try.checked }
namespace Rows
def none {H : Type} : Left H := { results := [], args := [] }

/-- 'dragomanlaw13.VietMakes': WHATEVER THE INPUT: true; the input reads as it did. -/
def vietMakesSpec : ChangeSpec := { name := "vietMakes", fn := fun _ => fun
  | [d1, d2, d3] => { results := [.lit (.bool true)], args := [d1, d2, d3] }
  | _ => none }
def vietMakesRow : OpenClaim := { program := "ytfehmbicolllkaa", sum := "a531314bf490cda3fb9ba6df129a1b681a3ae2eeab271ab1e58a457031098eca", func := "dragoman/dragomanlaw13.VietMakes", spec := "vietMakes", plainKeys := false, apart := false }
def VietMakesSaid : Prop := vietMakesRow.holds Try.pinned (OpenSpec.ofChange vietMakesSpec)

/-- ITS FALSE NEIGHBOUR: 'it returns false'. Refute it at one input. -/
def vietMakesWrong : ChangeSpec := { name := "vietMakes", fn := fun _ => fun
  | [d1, d2, d3] => { results := [.lit (.bool false)], args := [d1, d2, d3] }
  | _ => none }
def VietMakesWrongFalsely : Prop := vietMakesRow.holds Try.pinned (OpenSpec.ofChange vietMakesWrong)

/-- 'dragomanlaw13.VietGets': WHATEVER THE INPUT: true; the input reads as it did. -/
def vietGetsSpec : ChangeSpec := { name := "vietGets", fn := fun _ => fun
  | [d1, d2] => { results := [.lit (.bool true)], args := [d1, d2] }
  | _ => none }
def vietGetsRow : OpenClaim := { program := "ytfehmbicolllkaa", sum := "a531314bf490cda3fb9ba6df129a1b681a3ae2eeab271ab1e58a457031098eca", func := "dragoman/dragomanlaw13.VietGets", spec := "vietGets", plainKeys := false, apart := false }
def VietGetsSaid : Prop := vietGetsRow.holds Try.pinned (OpenSpec.ofChange vietGetsSpec)

/-- ITS FALSE NEIGHBOUR: 'it returns false'. Refute it at one input. -/
def vietGetsWrong : ChangeSpec := { name := "vietGets", fn := fun _ => fun
  | [d1, d2] => { results := [.lit (.bool false)], args := [d1, d2] }
  | _ => none }
def VietGetsWrongFalsely : Prop := vietGetsRow.holds Try.pinned (OpenSpec.ofChange vietGetsWrong)

/-- 'dragomanlaw13.VietSets': WHATEVER THE INPUT: true; the input reads as it did. -/
def vietSetsSpec : ChangeSpec := { name := "vietSets", fn := fun _ => fun
  | [d] => { results := [.lit (.bool true)], args := [d] }
  | _ => none }
def vietSetsRow : OpenClaim := { program := "ytfehmbicolllkaa", sum := "a531314bf490cda3fb9ba6df129a1b681a3ae2eeab271ab1e58a457031098eca", func := "dragoman/dragomanlaw13.VietSets", spec := "vietSets", plainKeys := false, apart := false }
def VietSetsSaid : Prop := vietSetsRow.holds Try.pinned (OpenSpec.ofChange vietSetsSpec)

/-- ITS FALSE NEIGHBOUR: 'it returns false'. Refute it at one input. -/
def vietSetsWrong : ChangeSpec := { name := "vietSets", fn := fun _ => fun
  | [d] => { results := [.lit (.bool false)], args := [d] }
  | _ => none }
def VietSetsWrongFalsely : Prop := vietSetsRow.holds Try.pinned (OpenSpec.ofChange vietSetsWrong)

/-- 'dragomanlaw13.VietBack': WHATEVER THE INPUT: true; the input reads as it did. -/
def vietBackSpec : ChangeSpec := { name := "vietBack", fn := fun _ => fun
  | [d] => { results := [.lit (.bool true)], args := [d] }
  | _ => none }
def vietBackRow : OpenClaim := { program := "ytfehmbicolllkaa", sum := "a531314bf490cda3fb9ba6df129a1b681a3ae2eeab271ab1e58a457031098eca", func := "dragoman/dragomanlaw13.VietBack", spec := "vietBack", plainKeys := false, apart := false }
def VietBackSaid : Prop := vietBackRow.holds Try.pinned (OpenSpec.ofChange vietBackSpec)

/-- ITS FALSE NEIGHBOUR: 'it returns false'. Refute it at one input. -/
def vietBackWrong : ChangeSpec := { name := "vietBack", fn := fun _ => fun
  | [d] => { results := [.lit (.bool false)], args := [d] }
  | _ => none }
def VietBackWrongFalsely : Prop := vietBackRow.holds Try.pinned (OpenSpec.ofChange vietBackWrong)

/-- 'dragomanlaw13.VietHolds': WHATEVER THE INPUT: true; the input reads as it did. -/
def vietHoldsSpec : ChangeSpec := { name := "vietHolds", fn := fun _ => fun
  | [d] => { results := [.lit (.bool true)], args := [d] }
  | _ => none }
def vietHoldsRow : OpenClaim := { program := "ytfehmbicolllkaa", sum := "a531314bf490cda3fb9ba6df129a1b681a3ae2eeab271ab1e58a457031098eca", func := "dragoman/dragomanlaw13.VietHolds", spec := "vietHolds", plainKeys := false, apart := false }
def VietHoldsSaid : Prop := vietHoldsRow.holds Try.pinned (OpenSpec.ofChange vietHoldsSpec)

/-- ITS FALSE NEIGHBOUR: 'it returns false'. Refute it at one input. -/
def vietHoldsWrong : ChangeSpec := { name := "vietHolds", fn := fun _ => fun
  | [d] => { results := [.lit (.bool false)], args := [d] }
  | _ => none }
def VietHoldsWrongFalsely : Prop := vietHoldsRow.holds Try.pinned (OpenSpec.ofChange vietHoldsWrong)

/-- 'dragomanlaw13.VietBytes': WHATEVER THE INPUT: true; the input reads as it did. -/
def vietBytesSpec : ChangeSpec := { name := "vietBytes", fn := fun _ => fun
  | [d] => { results := [.lit (.bool true)], args := [d] }
  | _ => none }
def vietBytesRow : OpenClaim := { program := "ytfehmbicolllkaa", sum := "a531314bf490cda3fb9ba6df129a1b681a3ae2eeab271ab1e58a457031098eca", func := "dragoman/dragomanlaw13.VietBytes", spec := "vietBytes", plainKeys := false, apart := false }
def VietBytesSaid : Prop := vietBytesRow.holds Try.pinned (OpenSpec.ofChange vietBytesSpec)

/-- ITS FALSE NEIGHBOUR: 'it returns false'. Refute it at one input. -/
def vietBytesWrong : ChangeSpec := { name := "vietBytes", fn := fun _ => fun
  | [d] => { results := [.lit (.bool false)], args := [d] }
  | _ => none }
def VietBytesWrongFalsely : Prop := vietBytesRow.holds Try.pinned (OpenSpec.ofChange vietBytesWrong)

/- THE SECOND FORM. 'bulk': how many values and letters a reading holds, each counted each time it is reached (what is shared counts as often as it is met; a slice's spare places count too). A statement '..UptoSaid' is the law's where the arguments, and the package variables that the reading takes, are together of bulk at most 1048576: NARROWER than '..Said'. Prove '..Said' where nothing that the law and all that it calls make is longer than what came in: it says more and counts as full. Else prove '..UptoSaid'. A law counts once. -/
mutual
def uptoBulk {H : Type} : DataW H → Nat
  | .lit (.string bytes) => bytes.length + 1
  | .lit _ => 1
  | .nil => 1
  | .ptr d => uptoBulk d + 1
  | .slice elems spare => uptoBulkAll elems + uptoBulkAll spare + 1
  | .agg parts => uptoBulkAll parts + 1
  | .iface _ d => uptoBulk d + 1
  | .map entries => uptoBulkEntries entries + 1
  | .held _ => 1
def uptoBulkAll {H : Type} : List (DataW H) → Nat
  | [] => 0
  | d :: r => uptoBulk d + uptoBulkAll r
def uptoBulkEntries {H : Type} : List (Lit × DataW H) → Nat
  | [] => 0
  | x :: r => uptoBulkEntry x + uptoBulkEntries r
def uptoBulkEntry {H : Type} : Lit × DataW H → Nat
  | (.string bytes, d) => bytes.length + uptoBulk d + 1
  | (_, d) => uptoBulk d + 1
 end
def uptoSmall : (H : Type) → List (DataW H) → Bool := fun _ ds => decide (uptoBulkAll ds ≤ 1048576)
def OpenSpec.upto (s : _root_.Go.ChangeSpec) : _root_.Go.OpenSpec := { _root_.Go.OpenSpec.ofChange s with cond := some uptoSmall }

/-- 'dragomanlaw13.VietMakes', WHERE WHAT IT READS IS OF BULK AT MOST 1048576: true; the input reads as it did. -/
def vietMakesUptoRow : OpenClaim := { program := "ytfehmbicolllkaa", sum := "a531314bf490cda3fb9ba6df129a1b681a3ae2eeab271ab1e58a457031098eca", func := "dragoman/dragomanlaw13.VietMakes", spec := "vietMakes", plainKeys := false, apart := false, narrowed := true }
def VietMakesUptoSaid : Prop := vietMakesUptoRow.holds Try.pinned (OpenSpec.upto vietMakesSpec)

/-- 'dragomanlaw13.VietGets', WHERE WHAT IT READS IS OF BULK AT MOST 1048576: true; the input reads as it did. -/
def vietGetsUptoRow : OpenClaim := { program := "ytfehmbicolllkaa", sum := "a531314bf490cda3fb9ba6df129a1b681a3ae2eeab271ab1e58a457031098eca", func := "dragoman/dragomanlaw13.VietGets", spec := "vietGets", plainKeys := false, apart := false, narrowed := true }
def VietGetsUptoSaid : Prop := vietGetsUptoRow.holds Try.pinned (OpenSpec.upto vietGetsSpec)

/-- 'dragomanlaw13.VietSets', WHERE WHAT IT READS IS OF BULK AT MOST 1048576: true; the input reads as it did. -/
def vietSetsUptoRow : OpenClaim := { program := "ytfehmbicolllkaa", sum := "a531314bf490cda3fb9ba6df129a1b681a3ae2eeab271ab1e58a457031098eca", func := "dragoman/dragomanlaw13.VietSets", spec := "vietSets", plainKeys := false, apart := false, narrowed := true }
def VietSetsUptoSaid : Prop := vietSetsUptoRow.holds Try.pinned (OpenSpec.upto vietSetsSpec)

/-- 'dragomanlaw13.VietBack', WHERE WHAT IT READS IS OF BULK AT MOST 1048576: true; the input reads as it did. -/
def vietBackUptoRow : OpenClaim := { program := "ytfehmbicolllkaa", sum := "a531314bf490cda3fb9ba6df129a1b681a3ae2eeab271ab1e58a457031098eca", func := "dragoman/dragomanlaw13.VietBack", spec := "vietBack", plainKeys := false, apart := false, narrowed := true }
def VietBackUptoSaid : Prop := vietBackUptoRow.holds Try.pinned (OpenSpec.upto vietBackSpec)

/-- 'dragomanlaw13.VietHolds', WHERE WHAT IT READS IS OF BULK AT MOST 1048576: true; the input reads as it did. -/
def vietHoldsUptoRow : OpenClaim := { program := "ytfehmbicolllkaa", sum := "a531314bf490cda3fb9ba6df129a1b681a3ae2eeab271ab1e58a457031098eca", func := "dragoman/dragomanlaw13.VietHolds", spec := "vietHolds", plainKeys := false, apart := false, narrowed := true }
def VietHoldsUptoSaid : Prop := vietHoldsUptoRow.holds Try.pinned (OpenSpec.upto vietHoldsSpec)

/-- 'dragomanlaw13.VietBytes', WHERE WHAT IT READS IS OF BULK AT MOST 1048576: true; the input reads as it did. -/
def vietBytesUptoRow : OpenClaim := { program := "ytfehmbicolllkaa", sum := "a531314bf490cda3fb9ba6df129a1b681a3ae2eeab271ab1e58a457031098eca", func := "dragoman/dragomanlaw13.VietBytes", spec := "vietBytes", plainKeys := false, apart := false, narrowed := true }
def VietBytesUptoSaid : Prop := vietBytesUptoRow.holds Try.pinned (OpenSpec.upto vietBytesSpec)

end Rows
end Go.Proofs.Ytfehmbicolllkaa
