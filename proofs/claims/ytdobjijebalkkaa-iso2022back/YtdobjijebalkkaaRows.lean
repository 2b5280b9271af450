/-
  No cell of these rows narrows 'for every input' (looked for: loops, veiled, ifaces, maps, wideKeys, modest, calm, conditions, laid).
  DERIVED. THE GIVEN ROWS OF THIS SEAT. 5 by the template 'for every input the law returns true; each argument reads behind the call as it read before'; 0 by the template 'total and deterministic' (their statements: YtdobjijebalkkaaTotals.lean).
  GIVEN WITH THE SEED: the statements are not yours to turn. If you find one false, say at which input.
  Laid BY PROGRAM, IN A SANDBOX (cutbox-rows.mjs): the forced cells as the released guide's own fill.sh prints them over the translation a752167d3c692e3f… (all of the seat's roots in one cut). By AI agents, Wed Nov 11 2026. No macro, syntax, notation, axiom, sorry.
-/
import Derived.Test.YtdobjijebalkkaaChecked
import GoSem.Claim
import GoSem.ClaimJoined
import GoSem.ClaimMapViews
import Derived.JoinedTies
import Derived.KernelRfl
namespace Go.Proofs.Ytdobjijebalkkaa
/- THE CELL 'sum', in the pinned program and in every row, IS THE sha256 OF THE DUMP (.gsa) THAT YtdobjijebalkkaaProg.lean LOADS. Nothing in Lean hashes anything: it is a label: what it is worth is what the hold of that sum in a sandbox is worth. -/
noncomputable def Try.pinned : Pinned := { name := "ytdobjijebalkkaa", sum := "a752167d3c692e3f7f9f4852cd3a5a9504b2465bfa9ce936c9a9c425a231d57d", checked := Try.checked }
namespace Rows
def none {H : Type} : Left H := { results := [], args := [] }

/-- 'dragomanlaw21.Iso2022Gets': WHATEVER THE INPUT: true; the input reads as it did. -/
def iso2022GetsSpec : ChangeSpec := { name := "iso2022Gets", fn := fun _ => fun
  | [d1, d2, d3] => { results := [.lit (.bool true)], args := [d1, d2, d3] }
  | _ => none }
def iso2022GetsRow : OpenClaim := { program := "ytdobjijebalkkaa", sum := "a752167d3c692e3f7f9f4852cd3a5a9504b2465bfa9ce936c9a9c425a231d57d", func := "dragoman/dragomanlaw21.Iso2022Gets", spec := "iso2022Gets", unfollowed := true, recurses := true, apart := false }
def Iso2022GetsSaid : Prop := iso2022GetsRow.holds Try.pinned (OpenSpec.ofChange iso2022GetsSpec)

/-- ITS FALSE NEIGHBOUR: 'it returns false'. Refute it at one input. -/
def iso2022GetsWrong : ChangeSpec := { name := "iso2022Gets", fn := fun _ => fun
  | [d1, d2, d3] => { results := [.lit (.bool false)], args := [d1, d2, d3] }
  | _ => none }
def Iso2022GetsWrongFalsely : Prop := iso2022GetsRow.holds Try.pinned (OpenSpec.ofChange iso2022GetsWrong)

/-- 'dragomanlaw21.Iso2022Sets': WHATEVER THE INPUT: true; the input reads as it did. -/
def iso2022SetsSpec : ChangeSpec := { name := "iso2022Sets", fn := fun _ => fun
  | [d1, d2, d3] => { results := [.lit (.bool true)], args := [d1, d2, d3] }
  | _ => none }
def iso2022SetsRow : OpenClaim := { program := "ytdobjijebalkkaa", sum := "a752167d3c692e3f7f9f4852cd3a5a9504b2465bfa9ce936c9a9c425a231d57d", func := "dragoman/dragomanlaw21.Iso2022Sets", spec := "iso2022Sets", unfollowed := true, recurses := true, apart := false }
def Iso2022SetsSaid : Prop := iso2022SetsRow.holds Try.pinned (OpenSpec.ofChange iso2022SetsSpec)

/-- ITS FALSE NEIGHBOUR: 'it returns false'. Refute it at one input. -/
def iso2022SetsWrong : ChangeSpec := { name := "iso2022Sets", fn := fun _ => fun
  | [d1, d2, d3] => { results := [.lit (.bool false)], args := [d1, d2, d3] }
  | _ => none }
def Iso2022SetsWrongFalsely : Prop := iso2022SetsRow.holds Try.pinned (OpenSpec.ofChange iso2022SetsWrong)

/-- 'dragomanlaw21.Iso2022Back': WHATEVER THE INPUT: true; the input reads as it did. -/
def iso2022BackSpec : ChangeSpec := { name := "iso2022Back", fn := fun _ => fun
  | [d1, d2] => { results := [.lit (.bool true)], args := [d1, d2] }
  | _ => none }
def iso2022BackRow : OpenClaim := { program := "ytdobjijebalkkaa", sum := "a752167d3c692e3f7f9f4852cd3a5a9504b2465bfa9ce936c9a9c425a231d57d", func := "dragoman/dragomanlaw21.Iso2022Back", spec := "iso2022Back", unfollowed := true, recurses := true, apart := false }
def Iso2022BackSaid : Prop := iso2022BackRow.holds Try.pinned (OpenSpec.ofChange iso2022BackSpec)

/-- ITS FALSE NEIGHBOUR: 'it returns false'. Refute it at one input. -/
def iso2022BackWrong : ChangeSpec := { name := "iso2022Back", fn := fun _ => fun
  | [d1, d2] => { results := [.lit (.bool false)], args := [d1, d2] }
  | _ => none }
def Iso2022BackWrongFalsely : Prop := iso2022BackRow.holds Try.pinned (OpenSpec.ofChange iso2022BackWrong)

/-- 'dragomanlaw21.Iso2022Cuts': WHATEVER THE INPUT: true; the input reads as it did. -/
def iso2022CutsSpec : ChangeSpec := { name := "iso2022Cuts", fn := fun _ => fun
  | [d1, d2, d3] => { results := [.lit (.bool true)], args := [d1, d2, d3] }
  | _ => none }
def iso2022CutsRow : OpenClaim := { program := "ytdobjijebalkkaa", sum := "a752167d3c692e3f7f9f4852cd3a5a9504b2465bfa9ce936c9a9c425a231d57d", func := "dragoman/dragomanlaw21.Iso2022Cuts", spec := "iso2022Cuts", unfollowed := true, recurses := true, apart := false }
def Iso2022CutsSaid : Prop := iso2022CutsRow.holds Try.pinned (OpenSpec.ofChange iso2022CutsSpec)

/-- ITS FALSE NEIGHBOUR: 'it returns false'. Refute it at one input. -/
def iso2022CutsWrong : ChangeSpec := { name := "iso2022Cuts", fn := fun _ => fun
  | [d1, d2, d3] => { results := [.lit (.bool false)], args := [d1, d2, d3] }
  | _ => none }
def Iso2022CutsWrongFalsely : Prop := iso2022CutsRow.holds Try.pinned (OpenSpec.ofChange iso2022CutsWrong)

/-- 'dragomanlaw21.Iso2022Plain': WHATEVER THE INPUT: true; the input reads as it did. -/
def iso2022PlainSpec : ChangeSpec := { name := "iso2022Plain", fn := fun _ => fun
  | [d] => { results := [.lit (.bool true)], args := [d] }
  | _ => none }
def iso2022PlainRow : OpenClaim := { program := "ytdobjijebalkkaa", sum := "a752167d3c692e3f7f9f4852cd3a5a9504b2465bfa9ce936c9a9c425a231d57d", func := "dragoman/dragomanlaw21.Iso2022Plain", spec := "iso2022Plain", unfollowed := true, recurses := true, apart := false }
def Iso2022PlainSaid : Prop := iso2022PlainRow.holds Try.pinned (OpenSpec.ofChange iso2022PlainSpec)

/-- ITS FALSE NEIGHBOUR: 'it returns false'. Refute it at one input. -/
def iso2022PlainWrong : ChangeSpec := { name := "iso2022Plain", fn := fun _ => fun
  | [d] => { results := [.lit (.bool false)], args := [d] }
  | _ => none }
def Iso2022PlainWrongFalsely : Prop := iso2022PlainRow.holds Try.pinned (OpenSpec.ofChange iso2022PlainWrong)

/- THE SECOND FORM. 'bulk': how many values and letters a reading holds, each counted each time it is reached (what is shared counts as often as it is met; a slice's spare places count too). A statement '..UptoSaid' is the law's where the arguments, and the package variables that the reading takes, are together of bulk at most 1048576: NARROWER than '..Said'. Prove '..Said' where nothing that the law and all that it calls make is longer than what came in: it says more and counts as full. Else prove '..UptoSaid'. A law counts once. -/
mutual
def uptoBulk {H : Type} : DataW H → Nat
  | .lit (.string bytes) => bytes.length + 1
  | .lit _ => 1
  | .nil => 1
  | .ptr d => uptoBulk d + 1
  | .slice elems spare => uptoBulkAll elems + uptoBulkAll spare + 1
  | .agg parts => uptoBulkAll parts + 1
  | .iface _ d => uptoBulk d + 1
  | .map entries => uptoBulkEntries entries + 1
  | .held _ => 1
def uptoBulkAll {H : Type} : List (DataW H) → Nat
  | [] => 0
  | d :: r => uptoBulk d + uptoBulkAll r
def uptoBulkEntries {H : Type} : List (Lit × DataW H) → Nat
  | [] => 0
  | x :: r => uptoBulkEntry x + uptoBulkEntries r
def uptoBulkEntry {H : Type} : Lit × DataW H → Nat
  | (.string bytes, d) => bytes.length + uptoBulk d + 1
  | (_, d) => uptoBulk d + 1
 end
def uptoSmall : (H : Type) → List (DataW H) → Bool := fun _ ds => decide (uptoBulkAll ds ≤ 1048576)
def OpenSpec.upto (s : _root_.Go.ChangeSpec) : _root_.Go.OpenSpec := { _root_.Go.OpenSpec.ofChange s with cond := some uptoSmall }

/-- 'dragomanlaw21.Iso2022Gets', WHERE WHAT IT READS IS OF BULK AT MOST 1048576: true; the input reads as it did. -/
def iso2022GetsUptoRow : OpenClaim := { program := "ytdobjijebalkkaa", sum := "a752167d3c692e3f7f9f4852cd3a5a9504b2465bfa9ce936c9a9c425a231d57d", func := "dragoman/dragomanlaw21.Iso2022Gets", spec := "iso2022Gets", unfollowed := true, recurses := true, apart := false, narrowed := true }
def Iso2022GetsUptoSaid : Prop := iso2022GetsUptoRow.holds Try.pinned (OpenSpec.upto iso2022GetsSpec)

/-- 'dragomanlaw21.Iso2022Sets', WHERE WHAT IT READS IS OF BULK AT MOST 1048576: true; the input reads as it did. -/
def iso2022SetsUptoRow : OpenClaim := { program := "ytdobjijebalkkaa", sum := "a752167d3c692e3f7f9f4852cd3a5a9504b2465bfa9ce936c9a9c425a231d57d", func := "dragoman/dragomanlaw21.Iso2022Sets", spec := "iso2022Sets", unfollowed := true, recurses := true, apart := false, narrowed := true }
def Iso2022SetsUptoSaid : Prop := iso2022SetsUptoRow.holds Try.pinned (OpenSpec.upto iso2022SetsSpec)

/-- 'dragomanlaw21.Iso2022Back', WHERE WHAT IT READS IS OF BULK AT MOST 1048576: true; the input reads as it did. -/
def iso2022BackUptoRow : OpenClaim := { program := "ytdobjijebalkkaa", sum := "a752167d3c692e3f7f9f4852cd3a5a9504b2465bfa9ce936c9a9c425a231d57d", func := "dragoman/dragomanlaw21.Iso2022Back", spec := "iso2022Back", unfollowed := true, recurses := true, apart := false, narrowed := true }
def Iso2022BackUptoSaid : Prop := iso2022BackUptoRow.holds Try.pinned (OpenSpec.upto iso2022BackSpec)

/-- 'dragomanlaw21.Iso2022Cuts', WHERE WHAT IT READS IS OF BULK AT MOST 1048576: true; the input reads as it did. -/
def iso2022CutsUptoRow : OpenClaim := { program := "ytdobjijebalkkaa", sum := "a752167d3c692e3f7f9f4852cd3a5a9504b2465bfa9ce936c9a9c425a231d57d", func := "dragoman/dragomanlaw21.Iso2022Cuts", spec := "iso2022Cuts", unfollowed := true, recurses := true, apart := false, narrowed := true }
def Iso2022CutsUptoSaid : Prop := iso2022CutsUptoRow.holds Try.pinned (OpenSpec.upto iso2022CutsSpec)

/-- 'dragomanlaw21.Iso2022Plain', WHERE WHAT IT READS IS OF BULK AT MOST 1048576: true; the input reads as it did. -/
def iso2022PlainUptoRow : OpenClaim := { program := "ytdobjijebalkkaa", sum := "a752167d3c692e3f7f9f4852cd3a5a9504b2465bfa9ce936c9a9c425a231d57d", func := "dragoman/dragomanlaw21.Iso2022Plain", spec := "iso2022Plain", unfollowed := true, recurses := true, apart := false, narrowed := true }
def Iso2022PlainUptoSaid : Prop := iso2022PlainUptoRow.holds Try.pinned (OpenSpec.upto iso2022PlainSpec)

end Rows
end Go.Proofs.Ytdobjijebalkkaa
