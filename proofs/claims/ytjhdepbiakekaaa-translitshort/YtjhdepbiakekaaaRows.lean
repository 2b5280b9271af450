/-
  No cell of these rows narrows 'for every input' (looked for: loops, veiled, ifaces, maps, wideKeys, modest, calm, conditions, laid).
  DERIVED. THE GIVEN ROWS OF THIS SEAT. 5 by the template 'for every input the law returns true; each argument reads behind the call as it read before'; 0 by the template 'total and deterministic' (their statements: YtjhdepbiakekaaaTotals.lean).
  GIVEN WITH THE SEED: the statements are not yours to turn. If you find one false, say at which input.
  Laid BY PROGRAM, IN A SANDBOX (cutbox-rows.mjs): the forced cells as the released guide's own fill.sh prints them over the translation fdc86ef6f794b76a… (all of the seat's roots in one cut). By AI agents, Wed Nov 11 2026. No macro, syntax, notation, axiom, sorry.
-/
import Derived.Test.YtjhdepbiakekaaaChecked
import GoSem.Claim
import GoSem.ClaimJoined
import GoSem.ClaimMapViews
import Derived.JoinedTies
import Derived.KernelRfl
namespace Go.Proofs.Ytjhdepbiakekaaa
/- THE CELL 'sum', in the pinned program and in every row, IS THE sha256 OF THE DUMP (.gsa) THAT YtjhdepbiakekaaaProg.lean LOADS. Nothing in Lean hashes anything: it is a label: what it is worth is what the hold of that sum in a sandbox is worth. -/
noncomputable def Try.pinned : Pinned := { name := "ytjhdepbiakekaaa", sum := "fdc86ef6f794b76a7aabeddf72b665e97d6c7e3cebcda3199bcdf77869c24a52", checked := Try.checked }
namespace Rows
def none {H : Type} : Left H := { results := [], args := [] }

/-- 'dragomanlaw22.TranslitTells': WHATEVER THE INPUT: true; the input reads as it did. -/
def translitTellsSpec : ChangeSpec := { name := "translitTells", fn := fun _ => fun
  | [d] => { results := [.lit (.bool true)], args := [d] }
  | _ => none }
def translitTellsRow : OpenClaim := { program := "ytjhdepbiakekaaa", sum := "fdc86ef6f794b76a7aabeddf72b665e97d6c7e3cebcda3199bcdf77869c24a52", func := "dragoman/dragomanlaw22.TranslitTells", spec := "translitTells", apart := false }
def TranslitTellsSaid : Prop := translitTellsRow.holds Try.pinned (OpenSpec.ofChange translitTellsSpec)

/-- ITS FALSE NEIGHBOUR: 'it returns false'. Refute it at one input. -/
def translitTellsWrong : ChangeSpec := { name := "translitTells", fn := fun _ => fun
  | [d] => { results := [.lit (.bool false)], args := [d] }
  | _ => none }
def TranslitTellsWrongFalsely : Prop := translitTellsRow.holds Try.pinned (OpenSpec.ofChange translitTellsWrong)

/-- 'dragomanlaw22.TranslitFirst': WHATEVER THE INPUT: true; the input reads as it did. -/
def translitFirstSpec : ChangeSpec := { name := "translitFirst", fn := fun _ => fun
  | [d1, d2] => { results := [.lit (.bool true)], args := [d1, d2] }
  | _ => none }
def translitFirstRow : OpenClaim := { program := "ytjhdepbiakekaaa", sum := "fdc86ef6f794b76a7aabeddf72b665e97d6c7e3cebcda3199bcdf77869c24a52", func := "dragoman/dragomanlaw22.TranslitFirst", spec := "translitFirst", apart := false }
def TranslitFirstSaid : Prop := translitFirstRow.holds Try.pinned (OpenSpec.ofChange translitFirstSpec)

/-- ITS FALSE NEIGHBOUR: 'it returns false'. Refute it at one input. -/
def translitFirstWrong : ChangeSpec := { name := "translitFirst", fn := fun _ => fun
  | [d1, d2] => { results := [.lit (.bool false)], args := [d1, d2] }
  | _ => none }
def TranslitFirstWrongFalsely : Prop := translitFirstRow.holds Try.pinned (OpenSpec.ofChange translitFirstWrong)

/-- 'dragomanlaw22.TranslitAll': WHATEVER THE INPUT: true; the input reads as it did. -/
def translitAllSpec : ChangeSpec := { name := "translitAll", fn := fun _ => fun
  | [d] => { results := [.lit (.bool true)], args := [d] }
  | _ => none }
def translitAllRow : OpenClaim := { program := "ytjhdepbiakekaaa", sum := "fdc86ef6f794b76a7aabeddf72b665e97d6c7e3cebcda3199bcdf77869c24a52", func := "dragoman/dragomanlaw22.TranslitAll", spec := "translitAll", apart := false }
def TranslitAllSaid : Prop := translitAllRow.holds Try.pinned (OpenSpec.ofChange translitAllSpec)

/-- ITS FALSE NEIGHBOUR: 'it returns false'. Refute it at one input. -/
def translitAllWrong : ChangeSpec := { name := "translitAll", fn := fun _ => fun
  | [d] => { results := [.lit (.bool false)], args := [d] }
  | _ => none }
def TranslitAllWrongFalsely : Prop := translitAllRow.holds Try.pinned (OpenSpec.ofChange translitAllWrong)

/-- 'dragomanlaw22.TranslitShort': WHATEVER THE INPUT: true; the input reads as it did. -/
def translitShortSpec : ChangeSpec := { name := "translitShort", fn := fun _ => fun
  | [d] => { results := [.lit (.bool true)], args := [d] }
  | _ => none }
def translitShortRow : OpenClaim := { program := "ytjhdepbiakekaaa", sum := "fdc86ef6f794b76a7aabeddf72b665e97d6c7e3cebcda3199bcdf77869c24a52", func := "dragoman/dragomanlaw22.TranslitShort", spec := "translitShort", apart := false }
def TranslitShortSaid : Prop := translitShortRow.holds Try.pinned (OpenSpec.ofChange translitShortSpec)

/-- ITS FALSE NEIGHBOUR: 'it returns false'. Refute it at one input. -/
def translitShortWrong : ChangeSpec := { name := "translitShort", fn := fun _ => fun
  | [d] => { results := [.lit (.bool false)], args := [d] }
  | _ => none }
def TranslitShortWrongFalsely : Prop := translitShortRow.holds Try.pinned (OpenSpec.ofChange translitShortWrong)

/-- 'dragomanlaw22.TranslitWide': WHATEVER THE INPUT: true; the input reads as it did. -/
def translitWideSpec : ChangeSpec := { name := "translitWide", fn := fun _ => fun
  | [d] => { results := [.lit (.bool true)], args := [d] }
  | _ => none }
def translitWideRow : OpenClaim := { program := "ytjhdepbiakekaaa", sum := "fdc86ef6f794b76a7aabeddf72b665e97d6c7e3cebcda3199bcdf77869c24a52", func := "dragoman/dragomanlaw22.TranslitWide", spec := "translitWide", apart := false }
def TranslitWideSaid : Prop := translitWideRow.holds Try.pinned (OpenSpec.ofChange translitWideSpec)

/-- ITS FALSE NEIGHBOUR: 'it returns false'. Refute it at one input. -/
def translitWideWrong : ChangeSpec := { name := "translitWide", fn := fun _ => fun
  | [d] => { results := [.lit (.bool false)], args := [d] }
  | _ => none }
def TranslitWideWrongFalsely : Prop := translitWideRow.holds Try.pinned (OpenSpec.ofChange translitWideWrong)

/- THE SECOND FORM. 'bulk': how many values and letters a reading holds, each counted each time it is reached (what is shared counts as often as it is met; a slice's spare places count too). A statement '..UptoSaid' is the law's where the arguments, and the package variables that the reading takes, are together of bulk at most 1048576: NARROWER than '..Said'. Prove '..Said' where nothing that the law and all that it calls make is longer than what came in: it says more and counts as full. Else prove '..UptoSaid'. A law counts once. -/
mutual
def uptoBulk {H : Type} : DataW H → Nat
  | .lit (.string bytes) => bytes.length + 1
  | .lit _ => 1
  | .nil => 1
  | .ptr d => uptoBulk d + 1
  | .slice elems spare => uptoBulkAll elems + uptoBulkAll spare + 1
  | .agg parts => uptoBulkAll parts + 1
  | .iface _ d => uptoBulk d + 1
  | .map entries => uptoBulkEntries entries + 1
  | .held _ => 1
def uptoBulkAll {H : Type} : List (DataW H) → Nat
  | [] => 0
  | d :: r => uptoBulk d + uptoBulkAll r
def uptoBulkEntries {H : Type} : List (Lit × DataW H) → Nat
  | [] => 0
  | x :: r => uptoBulkEntry x + uptoBulkEntries r
def uptoBulkEntry {H : Type} : Lit × DataW H → Nat
  | (.string bytes, d) => bytes.length + uptoBulk d + 1
  | (_, d) => uptoBulk d + 1
 end
def uptoSmall : (H : Type) → List (DataW H) → Bool := fun _ ds => decide (uptoBulkAll ds ≤ 1048576)
def OpenSpec.upto (s : _root_.Go.ChangeSpec) : _root_.Go.OpenSpec := { _root_.Go.OpenSpec.ofChange s with cond := some uptoSmall }

/-- 'dragomanlaw22.TranslitTells', WHERE WHAT IT READS IS OF BULK AT MOST 1048576: true; the input reads as it did. -/
def translitTellsUptoRow : OpenClaim := { program := "ytjhdepbiakekaaa", sum := "fdc86ef6f794b76a7aabeddf72b665e97d6c7e3cebcda3199bcdf77869c24a52", func := "dragoman/dragomanlaw22.TranslitTells", spec := "translitTells", apart := false, narrowed := true }
def TranslitTellsUptoSaid : Prop := translitTellsUptoRow.holds Try.pinned (OpenSpec.upto translitTellsSpec)

/-- 'dragomanlaw22.TranslitFirst', WHERE WHAT IT READS IS OF BULK AT MOST 1048576: true; the input reads as it did. -/
def translitFirstUptoRow : OpenClaim := { program := "ytjhdepbiakekaaa", sum := "fdc86ef6f794b76a7aabeddf72b665e97d6c7e3cebcda3199bcdf77869c24a52", func := "dragoman/dragomanlaw22.TranslitFirst", spec := "translitFirst", apart := false, narrowed := true }
def TranslitFirstUptoSaid : Prop := translitFirstUptoRow.holds Try.pinned (OpenSpec.upto translitFirstSpec)

/-- 'dragomanlaw22.TranslitAll', WHERE WHAT IT READS IS OF BULK AT MOST 1048576: true; the input reads as it did. -/
def translitAllUptoRow : OpenClaim := { program := "ytjhdepbiakekaaa", sum := "fdc86ef6f794b76a7aabeddf72b665e97d6c7e3cebcda3199bcdf77869c24a52", func := "dragoman/dragomanlaw22.TranslitAll", spec := "translitAll", apart := false, narrowed := true }
def TranslitAllUptoSaid : Prop := translitAllUptoRow.holds Try.pinned (OpenSpec.upto translitAllSpec)

/-- 'dragomanlaw22.TranslitShort', WHERE WHAT IT READS IS OF BULK AT MOST 1048576: true; the input reads as it did. -/
def translitShortUptoRow : OpenClaim := { program := "ytjhdepbiakekaaa", sum := "fdc86ef6f794b76a7aabeddf72b665e97d6c7e3cebcda3199bcdf77869c24a52", func := "dragoman/dragomanlaw22.TranslitShort", spec := "translitShort", apart := false, narrowed := true }
def TranslitShortUptoSaid : Prop := translitShortUptoRow.holds Try.pinned (OpenSpec.upto translitShortSpec)

/-- 'dragomanlaw22.TranslitWide', WHERE WHAT IT READS IS OF BULK AT MOST 1048576: true; the input reads as it did. -/
def translitWideUptoRow : OpenClaim := { program := "ytjhdepbiakekaaa", sum := "fdc86ef6f794b76a7aabeddf72b665e97d6c7e3cebcda3199bcdf77869c24a52", func := "dragoman/dragomanlaw22.TranslitWide", spec := "translitWide", apart := false, narrowed := true }
def TranslitWideUptoSaid : Prop := translitWideUptoRow.holds Try.pinned (OpenSpec.upto translitWideSpec)

end Rows
end Go.Proofs.Ytjhdepbiakekaaa
