/-
  No cell of these rows narrows 'for every input' (looked for: loops, veiled, ifaces, maps, wideKeys, modest, calm, conditions, laid).
  DERIVED. THE GIVEN ROWS OF THIS SEAT. 5 by the template 'for every input the law returns true; each argument reads behind the call as it read before'; 0 by the template 'total and deterministic' (their statements: YtliaadlanpfjbaaTotals.lean).
  GIVEN WITH THE SEED: the statements are not yours to turn. If you find one false, say at which input.
  Laid BY PROGRAM, IN A SANDBOX (cutbox-rows.mjs): the forced cells as the released guide's own fill.sh prints them over the translation 8ba91742ce540a74… (all of the seat's roots in one cut). By AI agents, Wed Nov 11 2026. No macro, syntax, notation, axiom, sorry.
-/
import Derived.Test.YtliaadlanpfjbaaChecked
import GoSem.Claim
import GoSem.ClaimJoined
import GoSem.ClaimMapViews
import Derived.JoinedTies
import Derived.KernelRfl
namespace Go.Proofs.Ytliaadlanpfjbaa
/- THE CELL 'sum', in the pinned program and in every row, IS THE sha256 OF THE DUMP (.gsa) THAT YtliaadlanpfjbaaProg.lean LOADS. Nothing in Lean hashes anything: it is a label: what it is worth is what the hold of that sum in a sandbox is worth. -/
noncomputable def Try.pinned : Pinned := { name := "ytliaadlanpfjbaa", sum := "8ba91742ce540a74b801de7353c307353a29f3829263c6baf10a5af700908548", checked := Try.checked }
namespace Rows
def none {H : Type} : Left H := { results := [], args := [] }

/-- 'dragomanlaw12.EbcdicTells': WHATEVER THE INPUT: true; the input reads as it did. -/
def ebcdicTellsSpec : ChangeSpec := { name := "ebcdicTells", fn := fun _ => fun
  | [d1, d2, d3] => { results := [.lit (.bool true)], args := [d1, d2, d3] }
  | _ => none }
def ebcdicTellsRow : OpenClaim := { program := "ytliaadlanpfjbaa", sum := "8ba91742ce540a74b801de7353c307353a29f3829263c6baf10a5af700908548", func := "dragoman/dragomanlaw12.EbcdicTells", spec := "ebcdicTells", apart := false }
def EbcdicTellsSaid : Prop := ebcdicTellsRow.holds Try.pinned (OpenSpec.ofChange ebcdicTellsSpec)

/-- ITS FALSE NEIGHBOUR: 'it returns false'. Refute it at one input. -/
def ebcdicTellsWrong : ChangeSpec := { name := "ebcdicTells", fn := fun _ => fun
  | [d1, d2, d3] => { results := [.lit (.bool false)], args := [d1, d2, d3] }
  | _ => none }
def EbcdicTellsWrongFalsely : Prop := ebcdicTellsRow.holds Try.pinned (OpenSpec.ofChange ebcdicTellsWrong)

/-- 'dragomanlaw12.EbcdicFlat': WHATEVER THE INPUT: true; the input reads as it did. -/
def ebcdicFlatSpec : ChangeSpec := { name := "ebcdicFlat", fn := fun _ => fun
  | [d] => { results := [.lit (.bool true)], args := [d] }
  | _ => none }
def ebcdicFlatRow : OpenClaim := { program := "ytliaadlanpfjbaa", sum := "8ba91742ce540a74b801de7353c307353a29f3829263c6baf10a5af700908548", func := "dragoman/dragomanlaw12.EbcdicFlat", spec := "ebcdicFlat", apart := false }
def EbcdicFlatSaid : Prop := ebcdicFlatRow.holds Try.pinned (OpenSpec.ofChange ebcdicFlatSpec)

/-- ITS FALSE NEIGHBOUR: 'it returns false'. Refute it at one input. -/
def ebcdicFlatWrong : ChangeSpec := { name := "ebcdicFlat", fn := fun _ => fun
  | [d] => { results := [.lit (.bool false)], args := [d] }
  | _ => none }
def EbcdicFlatWrongFalsely : Prop := ebcdicFlatRow.holds Try.pinned (OpenSpec.ofChange ebcdicFlatWrong)

/-- 'dragomanlaw12.EbcdicBack': WHATEVER THE INPUT: true; the input reads as it did. -/
def ebcdicBackSpec : ChangeSpec := { name := "ebcdicBack", fn := fun _ => fun
  | [d1, d2] => { results := [.lit (.bool true)], args := [d1, d2] }
  | _ => none }
def ebcdicBackRow : OpenClaim := { program := "ytliaadlanpfjbaa", sum := "8ba91742ce540a74b801de7353c307353a29f3829263c6baf10a5af700908548", func := "dragoman/dragomanlaw12.EbcdicBack", spec := "ebcdicBack", apart := false }
def EbcdicBackSaid : Prop := ebcdicBackRow.holds Try.pinned (OpenSpec.ofChange ebcdicBackSpec)

/-- ITS FALSE NEIGHBOUR: 'it returns false'. Refute it at one input. -/
def ebcdicBackWrong : ChangeSpec := { name := "ebcdicBack", fn := fun _ => fun
  | [d1, d2] => { results := [.lit (.bool false)], args := [d1, d2] }
  | _ => none }
def EbcdicBackWrongFalsely : Prop := ebcdicBackRow.holds Try.pinned (OpenSpec.ofChange ebcdicBackWrong)

/-- 'dragomanlaw12.EbcdicAll': WHATEVER THE INPUT: true; the input reads as it did. -/
def ebcdicAllSpec : ChangeSpec := { name := "ebcdicAll", fn := fun _ => fun
  | [d] => { results := [.lit (.bool true)], args := [d] }
  | _ => none }
def ebcdicAllRow : OpenClaim := { program := "ytliaadlanpfjbaa", sum := "8ba91742ce540a74b801de7353c307353a29f3829263c6baf10a5af700908548", func := "dragoman/dragomanlaw12.EbcdicAll", spec := "ebcdicAll", apart := false }
def EbcdicAllSaid : Prop := ebcdicAllRow.holds Try.pinned (OpenSpec.ofChange ebcdicAllSpec)

/-- ITS FALSE NEIGHBOUR: 'it returns false'. Refute it at one input. -/
def ebcdicAllWrong : ChangeSpec := { name := "ebcdicAll", fn := fun _ => fun
  | [d] => { results := [.lit (.bool false)], args := [d] }
  | _ => none }
def EbcdicAllWrongFalsely : Prop := ebcdicAllRow.holds Try.pinned (OpenSpec.ofChange ebcdicAllWrong)

/-- 'dragomanlaw12.EbcdicDigits': WHATEVER THE INPUT: true; the input reads as it did. -/
def ebcdicDigitsSpec : ChangeSpec := { name := "ebcdicDigits", fn := fun _ => fun
  | [d1, d2] => { results := [.lit (.bool true)], args := [d1, d2] }
  | _ => none }
def ebcdicDigitsRow : OpenClaim := { program := "ytliaadlanpfjbaa", sum := "8ba91742ce540a74b801de7353c307353a29f3829263c6baf10a5af700908548", func := "dragoman/dragomanlaw12.EbcdicDigits", spec := "ebcdicDigits", apart := false }
def EbcdicDigitsSaid : Prop := ebcdicDigitsRow.holds Try.pinned (OpenSpec.ofChange ebcdicDigitsSpec)

/-- ITS FALSE NEIGHBOUR: 'it returns false'. Refute it at one input. -/
def ebcdicDigitsWrong : ChangeSpec := { name := "ebcdicDigits", fn := fun _ => fun
  | [d1, d2] => { results := [.lit (.bool false)], args := [d1, d2] }
  | _ => none }
def EbcdicDigitsWrongFalsely : Prop := ebcdicDigitsRow.holds Try.pinned (OpenSpec.ofChange ebcdicDigitsWrong)

/- THE SECOND FORM. 'bulk': how many values and letters a reading holds, each counted each time it is reached (what is shared counts as often as it is met; a slice's spare places count too). A statement '..UptoSaid' is the law's where the arguments, and the package variables that the reading takes, are together of bulk at most 1048576: NARROWER than '..Said'. Prove '..Said' where nothing that the law and all that it calls make is longer than what came in: it says more and counts as full. Else prove '..UptoSaid'. A law counts once. -/
mutual
def uptoBulk {H : Type} : DataW H → Nat
  | .lit (.string bytes) => bytes.length + 1
  | .lit _ => 1
  | .nil => 1
  | .ptr d => uptoBulk d + 1
  | .slice elems spare => uptoBulkAll elems + uptoBulkAll spare + 1
  | .agg parts => uptoBulkAll parts + 1
  | .iface _ d => uptoBulk d + 1
  | .map entries => uptoBulkEntries entries + 1
  | .held _ => 1
def uptoBulkAll {H : Type} : List (DataW H) → Nat
  | [] => 0
  | d :: r => uptoBulk d + uptoBulkAll r
def uptoBulkEntries {H : Type} : List (Lit × DataW H) → Nat
  | [] => 0
  | x :: r => uptoBulkEntry x + uptoBulkEntries r
def uptoBulkEntry {H : Type} : Lit × DataW H → Nat
  | (.string bytes, d) => bytes.length + uptoBulk d + 1
  | (_, d) => uptoBulk d + 1
 end
def uptoSmall : (H : Type) → List (DataW H) → Bool := fun _ ds => decide (uptoBulkAll ds ≤ 1048576)
def OpenSpec.upto (s : _root_.Go.ChangeSpec) : _root_.Go.OpenSpec := { _root_.Go.OpenSpec.ofChange s with cond := some uptoSmall }

/-- 'dragomanlaw12.EbcdicTells', WHERE WHAT IT READS IS OF BULK AT MOST 1048576: true; the input reads as it did. -/
def ebcdicTellsUptoRow : OpenClaim := { program := "ytliaadlanpfjbaa", sum := "8ba91742ce540a74b801de7353c307353a29f3829263c6baf10a5af700908548", func := "dragoman/dragomanlaw12.EbcdicTells", spec := "ebcdicTells", apart := false, narrowed := true }
def EbcdicTellsUptoSaid : Prop := ebcdicTellsUptoRow.holds Try.pinned (OpenSpec.upto ebcdicTellsSpec)

/-- 'dragomanlaw12.EbcdicFlat', WHERE WHAT IT READS IS OF BULK AT MOST 1048576: true; the input reads as it did. -/
def ebcdicFlatUptoRow : OpenClaim := { program := "ytliaadlanpfjbaa", sum := "8ba91742ce540a74b801de7353c307353a29f3829263c6baf10a5af700908548", func := "dragoman/dragomanlaw12.EbcdicFlat", spec := "ebcdicFlat", apart := false, narrowed := true }
def EbcdicFlatUptoSaid : Prop := ebcdicFlatUptoRow.holds Try.pinned (OpenSpec.upto ebcdicFlatSpec)

/-- 'dragomanlaw12.EbcdicBack', WHERE WHAT IT READS IS OF BULK AT MOST 1048576: true; the input reads as it did. -/
def ebcdicBackUptoRow : OpenClaim := { program := "ytliaadlanpfjbaa", sum := "8ba91742ce540a74b801de7353c307353a29f3829263c6baf10a5af700908548", func := "dragoman/dragomanlaw12.EbcdicBack", spec := "ebcdicBack", apart := false, narrowed := true }
def EbcdicBackUptoSaid : Prop := ebcdicBackUptoRow.holds Try.pinned (OpenSpec.upto ebcdicBackSpec)

/-- 'dragomanlaw12.EbcdicAll', WHERE WHAT IT READS IS OF BULK AT MOST 1048576: true; the input reads as it did. -/
def ebcdicAllUptoRow : OpenClaim := { program := "ytliaadlanpfjbaa", sum := "8ba91742ce540a74b801de7353c307353a29f3829263c6baf10a5af700908548", func := "dragoman/dragomanlaw12.EbcdicAll", spec := "ebcdicAll", apart := false, narrowed := true }
def EbcdicAllUptoSaid : Prop := ebcdicAllUptoRow.holds Try.pinned (OpenSpec.upto ebcdicAllSpec)

/-- 'dragomanlaw12.EbcdicDigits', WHERE WHAT IT READS IS OF BULK AT MOST 1048576: true; the input reads as it did. -/
def ebcdicDigitsUptoRow : OpenClaim := { program := "ytliaadlanpfjbaa", sum := "8ba91742ce540a74b801de7353c307353a29f3829263c6baf10a5af700908548", func := "dragoman/dragomanlaw12.EbcdicDigits", spec := "ebcdicDigits", apart := false, narrowed := true }
def EbcdicDigitsUptoSaid : Prop := ebcdicDigitsUptoRow.holds Try.pinned (OpenSpec.upto ebcdicDigitsSpec)

end Rows
end Go.Proofs.Ytliaadlanpfjbaa
