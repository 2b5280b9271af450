/-
  No cell of these rows narrows 'for every input' (looked for: loops, veiled, ifaces, maps, wideKeys, modest, calm, conditions, laid).
  DERIVED. THE GIVEN ROWS OF THIS SEAT. 5 by the template 'for every input the law returns true; each argument reads behind the call as it read before'; 0 by the template 'total and deterministic' (their statements: YtdhgkfeobneoeaaTotals.lean).
  GIVEN WITH THE SEED: the statements are not yours to turn. If you find one false, say at which input.
  Laid BY PROGRAM, IN A SANDBOX (cutbox-rows.mjs): the forced cells as the released guide's own fill.sh prints them over the translation 8e0550498f15dceb… (all of the seat's roots in one cut). By AI agents, Wed Nov 11 2026. No macro, syntax, notation, axiom, sorry.
-/
import Derived.Test.YtdhgkfeobneoeaaChecked
import GoSem.Claim
import GoSem.ClaimJoined
import GoSem.ClaimMapViews
import Derived.JoinedTies
import Derived.KernelRfl
namespace Go.Proofs.Ytdhgkfeobneoeaa
/- THE CELL 'sum', in the pinned program and in every row, IS THE sha256 OF THE DUMP (.gsa) THAT YtdhgkfeobneoeaaProg.lean LOADS. Nothing in Lean hashes anything: it is a label: what it is worth is what the hold of that sum in a sandbox is worth. -/
noncomputable def Try.pinned : Pinned := { name := "ytdhgkfeobneoeaa", sum := "8e0550498f15dceba67019a541b0f49f0ae0b04e2a3dba364a01cc4efa90bf87", checked := Try.checked }
namespace Rows
def none {H : Type} : Left H := { results := [], args := [] }

/-- 'dragomanlaw14.JisTells': WHATEVER THE INPUT: true; the input reads as it did. -/
def jisTellsSpec : ChangeSpec := { name := "jisTells", fn := fun _ => fun
  | [d1, d2, d3] => { results := [.lit (.bool true)], args := [d1, d2, d3] }
  | _ => none }
def jisTellsRow : OpenClaim := { program := "ytdhgkfeobneoeaa", sum := "8e0550498f15dceba67019a541b0f49f0ae0b04e2a3dba364a01cc4efa90bf87", func := "dragoman/dragomanlaw14.JisTells", spec := "jisTells", apart := false }
def JisTellsSaid : Prop := jisTellsRow.holds Try.pinned (OpenSpec.ofChange jisTellsSpec)

/-- ITS FALSE NEIGHBOUR: 'it returns false'. Refute it at one input. -/
def jisTellsWrong : ChangeSpec := { name := "jisTells", fn := fun _ => fun
  | [d1, d2, d3] => { results := [.lit (.bool false)], args := [d1, d2, d3] }
  | _ => none }
def JisTellsWrongFalsely : Prop := jisTellsRow.holds Try.pinned (OpenSpec.ofChange jisTellsWrong)

/-- 'dragomanlaw14.JisRows': WHATEVER THE INPUT: true; the input reads as it did. -/
def jisRowsSpec : ChangeSpec := { name := "jisRows", fn := fun _ => fun
  | [d] => { results := [.lit (.bool true)], args := [d] }
  | _ => none }
def jisRowsRow : OpenClaim := { program := "ytdhgkfeobneoeaa", sum := "8e0550498f15dceba67019a541b0f49f0ae0b04e2a3dba364a01cc4efa90bf87", func := "dragoman/dragomanlaw14.JisRows", spec := "jisRows", apart := false }
def JisRowsSaid : Prop := jisRowsRow.holds Try.pinned (OpenSpec.ofChange jisRowsSpec)

/-- ITS FALSE NEIGHBOUR: 'it returns false'. Refute it at one input. -/
def jisRowsWrong : ChangeSpec := { name := "jisRows", fn := fun _ => fun
  | [d] => { results := [.lit (.bool false)], args := [d] }
  | _ => none }
def JisRowsWrongFalsely : Prop := jisRowsRow.holds Try.pinned (OpenSpec.ofChange jisRowsWrong)

/-- 'dragomanlaw14.JisBack': WHATEVER THE INPUT: true; the input reads as it did. -/
def jisBackSpec : ChangeSpec := { name := "jisBack", fn := fun _ => fun
  | [d1, d2] => { results := [.lit (.bool true)], args := [d1, d2] }
  | _ => none }
def jisBackRow : OpenClaim := { program := "ytdhgkfeobneoeaa", sum := "8e0550498f15dceba67019a541b0f49f0ae0b04e2a3dba364a01cc4efa90bf87", func := "dragoman/dragomanlaw14.JisBack", spec := "jisBack", apart := false }
def JisBackSaid : Prop := jisBackRow.holds Try.pinned (OpenSpec.ofChange jisBackSpec)

/-- ITS FALSE NEIGHBOUR: 'it returns false'. Refute it at one input. -/
def jisBackWrong : ChangeSpec := { name := "jisBack", fn := fun _ => fun
  | [d1, d2] => { results := [.lit (.bool false)], args := [d1, d2] }
  | _ => none }
def JisBackWrongFalsely : Prop := jisBackRow.holds Try.pinned (OpenSpec.ofChange jisBackWrong)

/-- 'dragomanlaw14.JisHalf': WHATEVER THE INPUT: true; the input reads as it did. -/
def jisHalfSpec : ChangeSpec := { name := "jisHalf", fn := fun _ => fun
  | [d1, d2] => { results := [.lit (.bool true)], args := [d1, d2] }
  | _ => none }
def jisHalfRow : OpenClaim := { program := "ytdhgkfeobneoeaa", sum := "8e0550498f15dceba67019a541b0f49f0ae0b04e2a3dba364a01cc4efa90bf87", func := "dragoman/dragomanlaw14.JisHalf", spec := "jisHalf", apart := false }
def JisHalfSaid : Prop := jisHalfRow.holds Try.pinned (OpenSpec.ofChange jisHalfSpec)

/-- ITS FALSE NEIGHBOUR: 'it returns false'. Refute it at one input. -/
def jisHalfWrong : ChangeSpec := { name := "jisHalf", fn := fun _ => fun
  | [d1, d2] => { results := [.lit (.bool false)], args := [d1, d2] }
  | _ => none }
def JisHalfWrongFalsely : Prop := jisHalfRow.holds Try.pinned (OpenSpec.ofChange jisHalfWrong)

/-- 'dragomanlaw14.JisKana': WHATEVER THE INPUT: true; the input reads as it did. -/
def jisKanaSpec : ChangeSpec := { name := "jisKana", fn := fun _ => fun
  | [d] => { results := [.lit (.bool true)], args := [d] }
  | _ => none }
def jisKanaRow : OpenClaim := { program := "ytdhgkfeobneoeaa", sum := "8e0550498f15dceba67019a541b0f49f0ae0b04e2a3dba364a01cc4efa90bf87", func := "dragoman/dragomanlaw14.JisKana", spec := "jisKana", apart := false }
def JisKanaSaid : Prop := jisKanaRow.holds Try.pinned (OpenSpec.ofChange jisKanaSpec)

/-- ITS FALSE NEIGHBOUR: 'it returns false'. Refute it at one input. -/
def jisKanaWrong : ChangeSpec := { name := "jisKana", fn := fun _ => fun
  | [d] => { results := [.lit (.bool false)], args := [d] }
  | _ => none }
def JisKanaWrongFalsely : Prop := jisKanaRow.holds Try.pinned (OpenSpec.ofChange jisKanaWrong)

/- THE SECOND FORM. 'bulk': how many values and letters a reading holds, each counted each time it is reached (what is shared counts as often as it is met; a slice's spare places count too). A statement '..UptoSaid' is the law's where the arguments, and the package variables that the reading takes, are together of bulk at most 1048576: NARROWER than '..Said'. Prove '..Said' where nothing that the law and all that it calls make is longer than what came in: it says more and counts as full. Else prove '..UptoSaid'. A law counts once. -/
mutual
def uptoBulk {H : Type} : DataW H → Nat
  | .lit (.string bytes) => bytes.length + 1
  | .lit _ => 1
  | .nil => 1
  | .ptr d => uptoBulk d + 1
  | .slice elems spare => uptoBulkAll elems + uptoBulkAll spare + 1
  | .agg parts => uptoBulkAll parts + 1
  | .iface _ d => uptoBulk d + 1
  | .map entries => uptoBulkEntries entries + 1
  | .held _ => 1
def uptoBulkAll {H : Type} : List (DataW H) → Nat
  | [] => 0
  | d :: r => uptoBulk d + uptoBulkAll r
def uptoBulkEntries {H : Type} : List (Lit × DataW H) → Nat
  | [] => 0
  | x :: r => uptoBulkEntry x + uptoBulkEntries r
def uptoBulkEntry {H : Type} : Lit × DataW H → Nat
  | (.string bytes, d) => bytes.length + uptoBulk d + 1
  | (_, d) => uptoBulk d + 1
 end
def uptoSmall : (H : Type) → List (DataW H) → Bool := fun _ ds => decide (uptoBulkAll ds ≤ 1048576)
def OpenSpec.upto (s : _root_.Go.ChangeSpec) : _root_.Go.OpenSpec := { _root_.Go.OpenSpec.ofChange s with cond := some uptoSmall }

/-- 'dragomanlaw14.JisTells', WHERE WHAT IT READS IS OF BULK AT MOST 1048576: true; the input reads as it did. -/
def jisTellsUptoRow : OpenClaim := { program := "ytdhgkfeobneoeaa", sum := "8e0550498f15dceba67019a541b0f49f0ae0b04e2a3dba364a01cc4efa90bf87", func := "dragoman/dragomanlaw14.JisTells", spec := "jisTells", apart := false, narrowed := true }
def JisTellsUptoSaid : Prop := jisTellsUptoRow.holds Try.pinned (OpenSpec.upto jisTellsSpec)

/-- 'dragomanlaw14.JisRows', WHERE WHAT IT READS IS OF BULK AT MOST 1048576: true; the input reads as it did. -/
def jisRowsUptoRow : OpenClaim := { program := "ytdhgkfeobneoeaa", sum := "8e0550498f15dceba67019a541b0f49f0ae0b04e2a3dba364a01cc4efa90bf87", func := "dragoman/dragomanlaw14.JisRows", spec := "jisRows", apart := false, narrowed := true }
def JisRowsUptoSaid : Prop := jisRowsUptoRow.holds Try.pinned (OpenSpec.upto jisRowsSpec)

/-- 'dragomanlaw14.JisBack', WHERE WHAT IT READS IS OF BULK AT MOST 1048576: true; the input reads as it did. -/
def jisBackUptoRow : OpenClaim := { program := "ytdhgkfeobneoeaa", sum := "8e0550498f15dceba67019a541b0f49f0ae0b04e2a3dba364a01cc4efa90bf87", func := "dragoman/dragomanlaw14.JisBack", spec := "jisBack", apart := false, narrowed := true }
def JisBackUptoSaid : Prop := jisBackUptoRow.holds Try.pinned (OpenSpec.upto jisBackSpec)

/-- 'dragomanlaw14.JisHalf', WHERE WHAT IT READS IS OF BULK AT MOST 1048576: true; the input reads as it did. -/
def jisHalfUptoRow : OpenClaim := { program := "ytdhgkfeobneoeaa", sum := "8e0550498f15dceba67019a541b0f49f0ae0b04e2a3dba364a01cc4efa90bf87", func := "dragoman/dragomanlaw14.JisHalf", spec := "jisHalf", apart := false, narrowed := true }
def JisHalfUptoSaid : Prop := jisHalfUptoRow.holds Try.pinned (OpenSpec.upto jisHalfSpec)

/-- 'dragomanlaw14.JisKana', WHERE WHAT IT READS IS OF BULK AT MOST 1048576: true; the input reads as it did. -/
def jisKanaUptoRow : OpenClaim := { program := "ytdhgkfeobneoeaa", sum := "8e0550498f15dceba67019a541b0f49f0ae0b04e2a3dba364a01cc4efa90bf87", func := "dragoman/dragomanlaw14.JisKana", spec := "jisKana", apart := false, narrowed := true }
def JisKanaUptoSaid : Prop := jisKanaUptoRow.holds Try.pinned (OpenSpec.upto jisKanaSpec)

end Rows
end Go.Proofs.Ytdhgkfeobneoeaa
