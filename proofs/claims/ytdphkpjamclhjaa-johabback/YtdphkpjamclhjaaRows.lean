/-
  No cell of these rows narrows 'for every input' (looked for: loops, veiled, ifaces, maps, wideKeys, modest, calm, conditions, laid).
  DERIVED. THE GIVEN ROWS OF THIS SEAT. 6 by the template 'for every input the law returns true; each argument reads behind the call as it read before'; 0 by the template 'total and deterministic' (their statements: YtdphkpjamclhjaaTotals.lean).
  GIVEN WITH THE SEED: the statements are not yours to turn. If you find one false, say at which input.
  Laid BY PROGRAM, IN A SANDBOX (cutbox-rows.mjs): the forced cells as the released guide's own fill.sh prints them over the translation f7b0fc5f58a6921d… (all of the seat's roots in one cut). By AI agents, Wed Nov 11 2026. No macro, syntax, notation, axiom, sorry.
-/
import Derived.Test.YtdphkpjamclhjaaChecked
import GoSem.Claim
import GoSem.ClaimJoined
import GoSem.ClaimMapViews
import Derived.JoinedTies
import Derived.KernelRfl
namespace Go.Proofs.Ytdphkpjamclhjaa
/- THE CELL 'sum', in the pinned program and in every row, IS THE sha256 OF THE DUMP (.gsa) THAT YtdphkpjamclhjaaProg.lean LOADS. Nothing in Lean hashes anything: it is a label: what it is worth is what the hold of that sum in a sandbox is worth. -/
noncomputable def Try.pinned : Pinned := { name := "ytdphkpjamclhjaa", sum := "f7b0fc5f58a6921d6727f61b30853d551510af3fcaed7dcc61fe3d7373df3356", checked := Try.checked }
namespace Rows
def none {H : Type} : Left H := { results := [], args := [] }

/-- 'dragomanlaw19.JohabGets': WHATEVER THE INPUT: true; the input reads as it did. -/
def johabGetsSpec : ChangeSpec := { name := "johabGets", fn := fun _ => fun
  | [d] => { results := [.lit (.bool true)], args := [d] }
  | _ => none }
def johabGetsRow : OpenClaim := { program := "ytdphkpjamclhjaa", sum := "f7b0fc5f58a6921d6727f61b30853d551510af3fcaed7dcc61fe3d7373df3356", func := "dragoman/dragomanlaw19.JohabGets", spec := "johabGets", apart := false }
def JohabGetsSaid : Prop := johabGetsRow.holds Try.pinned (OpenSpec.ofChange johabGetsSpec)

/-- ITS FALSE NEIGHBOUR: 'it returns false'. Refute it at one input. -/
def johabGetsWrong : ChangeSpec := { name := "johabGets", fn := fun _ => fun
  | [d] => { results := [.lit (.bool false)], args := [d] }
  | _ => none }
def JohabGetsWrongFalsely : Prop := johabGetsRow.holds Try.pinned (OpenSpec.ofChange johabGetsWrong)

/-- 'dragomanlaw19.JohabSets': WHATEVER THE INPUT: true; the input reads as it did. -/
def johabSetsSpec : ChangeSpec := { name := "johabSets", fn := fun _ => fun
  | [d] => { results := [.lit (.bool true)], args := [d] }
  | _ => none }
def johabSetsRow : OpenClaim := { program := "ytdphkpjamclhjaa", sum := "f7b0fc5f58a6921d6727f61b30853d551510af3fcaed7dcc61fe3d7373df3356", func := "dragoman/dragomanlaw19.JohabSets", spec := "johabSets", apart := false }
def JohabSetsSaid : Prop := johabSetsRow.holds Try.pinned (OpenSpec.ofChange johabSetsSpec)

/-- ITS FALSE NEIGHBOUR: 'it returns false'. Refute it at one input. -/
def johabSetsWrong : ChangeSpec := { name := "johabSets", fn := fun _ => fun
  | [d] => { results := [.lit (.bool false)], args := [d] }
  | _ => none }
def JohabSetsWrongFalsely : Prop := johabSetsRow.holds Try.pinned (OpenSpec.ofChange johabSetsWrong)

/-- 'dragomanlaw19.JohabPacks': WHATEVER THE INPUT: true; the input reads as it did. -/
def johabPacksSpec : ChangeSpec := { name := "johabPacks", fn := fun _ => fun
  | [d1, d2, d3, d4] => { results := [.lit (.bool true)], args := [d1, d2, d3, d4] }
  | _ => none }
def johabPacksRow : OpenClaim := { program := "ytdphkpjamclhjaa", sum := "f7b0fc5f58a6921d6727f61b30853d551510af3fcaed7dcc61fe3d7373df3356", func := "dragoman/dragomanlaw19.JohabPacks", spec := "johabPacks", apart := false }
def JohabPacksSaid : Prop := johabPacksRow.holds Try.pinned (OpenSpec.ofChange johabPacksSpec)

/-- ITS FALSE NEIGHBOUR: 'it returns false'. Refute it at one input. -/
def johabPacksWrong : ChangeSpec := { name := "johabPacks", fn := fun _ => fun
  | [d1, d2, d3, d4] => { results := [.lit (.bool false)], args := [d1, d2, d3, d4] }
  | _ => none }
def JohabPacksWrongFalsely : Prop := johabPacksRow.holds Try.pinned (OpenSpec.ofChange johabPacksWrong)

/-- 'dragomanlaw19.JohabBack': WHATEVER THE INPUT: true; the input reads as it did. -/
def johabBackSpec : ChangeSpec := { name := "johabBack", fn := fun _ => fun
  | [d1, d2] => { results := [.lit (.bool true)], args := [d1, d2] }
  | _ => none }
def johabBackRow : OpenClaim := { program := "ytdphkpjamclhjaa", sum := "f7b0fc5f58a6921d6727f61b30853d551510af3fcaed7dcc61fe3d7373df3356", func := "dragoman/dragomanlaw19.JohabBack", spec := "johabBack", apart := false }
def JohabBackSaid : Prop := johabBackRow.holds Try.pinned (OpenSpec.ofChange johabBackSpec)

/-- ITS FALSE NEIGHBOUR: 'it returns false'. Refute it at one input. -/
def johabBackWrong : ChangeSpec := { name := "johabBack", fn := fun _ => fun
  | [d1, d2] => { results := [.lit (.bool false)], args := [d1, d2] }
  | _ => none }
def JohabBackWrongFalsely : Prop := johabBackRow.holds Try.pinned (OpenSpec.ofChange johabBackWrong)

/-- 'dragomanlaw19.JohabSyllables': WHATEVER THE INPUT: true; the input reads as it did. -/
def johabSyllablesSpec : ChangeSpec := { name := "johabSyllables", fn := fun _ => fun
  | [d] => { results := [.lit (.bool true)], args := [d] }
  | _ => none }
def johabSyllablesRow : OpenClaim := { program := "ytdphkpjamclhjaa", sum := "f7b0fc5f58a6921d6727f61b30853d551510af3fcaed7dcc61fe3d7373df3356", func := "dragoman/dragomanlaw19.JohabSyllables", spec := "johabSyllables", apart := false }
def JohabSyllablesSaid : Prop := johabSyllablesRow.holds Try.pinned (OpenSpec.ofChange johabSyllablesSpec)

/-- ITS FALSE NEIGHBOUR: 'it returns false'. Refute it at one input. -/
def johabSyllablesWrong : ChangeSpec := { name := "johabSyllables", fn := fun _ => fun
  | [d] => { results := [.lit (.bool false)], args := [d] }
  | _ => none }
def JohabSyllablesWrongFalsely : Prop := johabSyllablesRow.holds Try.pinned (OpenSpec.ofChange johabSyllablesWrong)

/-- 'dragomanlaw19.JohabPlain': WHATEVER THE INPUT: true; the input reads as it did. -/
def johabPlainSpec : ChangeSpec := { name := "johabPlain", fn := fun _ => fun
  | [d1, d2] => { results := [.lit (.bool true)], args := [d1, d2] }
  | _ => none }
def johabPlainRow : OpenClaim := { program := "ytdphkpjamclhjaa", sum := "f7b0fc5f58a6921d6727f61b30853d551510af3fcaed7dcc61fe3d7373df3356", func := "dragoman/dragomanlaw19.JohabPlain", spec := "johabPlain", apart := false }
def JohabPlainSaid : Prop := johabPlainRow.holds Try.pinned (OpenSpec.ofChange johabPlainSpec)

/-- ITS FALSE NEIGHBOUR: 'it returns false'. Refute it at one input. -/
def johabPlainWrong : ChangeSpec := { name := "johabPlain", fn := fun _ => fun
  | [d1, d2] => { results := [.lit (.bool false)], args := [d1, d2] }
  | _ => none }
def JohabPlainWrongFalsely : Prop := johabPlainRow.holds Try.pinned (OpenSpec.ofChange johabPlainWrong)

/- THE SECOND FORM. 'bulk': how many values and letters a reading holds, each counted each time it is reached (what is shared counts as often as it is met; a slice's spare places count too). A statement '..UptoSaid' is the law's where the arguments, and the package variables that the reading takes, are together of bulk at most 1048576: NARROWER than '..Said'. Prove '..Said' where nothing that the law and all that it calls make is longer than what came in: it says more and counts as full. Else prove '..UptoSaid'. A law counts once. -/
mutual
def uptoBulk {H : Type} : DataW H → Nat
  | .lit (.string bytes) => bytes.length + 1
  | .lit _ => 1
  | .nil => 1
  | .ptr d => uptoBulk d + 1
  | .slice elems spare => uptoBulkAll elems + uptoBulkAll spare + 1
  | .agg parts => uptoBulkAll parts + 1
  | .iface _ d => uptoBulk d + 1
  | .map entries => uptoBulkEntries entries + 1
  | .held _ => 1
def uptoBulkAll {H : Type} : List (DataW H) → Nat
  | [] => 0
  | d :: r => uptoBulk d + uptoBulkAll r
def uptoBulkEntries {H : Type} : List (Lit × DataW H) → Nat
  | [] => 0
  | x :: r => uptoBulkEntry x + uptoBulkEntries r
def uptoBulkEntry {H : Type} : Lit × DataW H → Nat
  | (.string bytes, d) => bytes.length + uptoBulk d + 1
  | (_, d) => uptoBulk d + 1
 end
def uptoSmall : (H : Type) → List (DataW H) → Bool := fun _ ds => decide (uptoBulkAll ds ≤ 1048576)
def OpenSpec.upto (s : _root_.Go.ChangeSpec) : _root_.Go.OpenSpec := { _root_.Go.OpenSpec.ofChange s with cond := some uptoSmall }

/-- 'dragomanlaw19.JohabGets', WHERE WHAT IT READS IS OF BULK AT MOST 1048576: true; the input reads as it did. -/
def johabGetsUptoRow : OpenClaim := { program := "ytdphkpjamclhjaa", sum := "f7b0fc5f58a6921d6727f61b30853d551510af3fcaed7dcc61fe3d7373df3356", func := "dragoman/dragomanlaw19.JohabGets", spec := "johabGets", apart := false, narrowed := true }
def JohabGetsUptoSaid : Prop := johabGetsUptoRow.holds Try.pinned (OpenSpec.upto johabGetsSpec)

/-- 'dragomanlaw19.JohabSets', WHERE WHAT IT READS IS OF BULK AT MOST 1048576: true; the input reads as it did. -/
def johabSetsUptoRow : OpenClaim := { program := "ytdphkpjamclhjaa", sum := "f7b0fc5f58a6921d6727f61b30853d551510af3fcaed7dcc61fe3d7373df3356", func := "dragoman/dragomanlaw19.JohabSets", spec := "johabSets", apart := false, narrowed := true }
def JohabSetsUptoSaid : Prop := johabSetsUptoRow.holds Try.pinned (OpenSpec.upto johabSetsSpec)

/-- 'dragomanlaw19.JohabPacks', WHERE WHAT IT READS IS OF BULK AT MOST 1048576: true; the input reads as it did. -/
def johabPacksUptoRow : OpenClaim := { program := "ytdphkpjamclhjaa", sum := "f7b0fc5f58a6921d6727f61b30853d551510af3fcaed7dcc61fe3d7373df3356", func := "dragoman/dragomanlaw19.JohabPacks", spec := "johabPacks", apart := false, narrowed := true }
def JohabPacksUptoSaid : Prop := johabPacksUptoRow.holds Try.pinned (OpenSpec.upto johabPacksSpec)

/-- 'dragomanlaw19.JohabBack', WHERE WHAT IT READS IS OF BULK AT MOST 1048576: true; the input reads as it did. -/
def johabBackUptoRow : OpenClaim := { program := "ytdphkpjamclhjaa", sum := "f7b0fc5f58a6921d6727f61b30853d551510af3fcaed7dcc61fe3d7373df3356", func := "dragoman/dragomanlaw19.JohabBack", spec := "johabBack", apart := false, narrowed := true }
def JohabBackUptoSaid : Prop := johabBackUptoRow.holds Try.pinned (OpenSpec.upto johabBackSpec)

/-- 'dragomanlaw19.JohabSyllables', WHERE WHAT IT READS IS OF BULK AT MOST 1048576: true; the input reads as it did. -/
def johabSyllablesUptoRow : OpenClaim := { program := "ytdphkpjamclhjaa", sum := "f7b0fc5f58a6921d6727f61b30853d551510af3fcaed7dcc61fe3d7373df3356", func := "dragoman/dragomanlaw19.JohabSyllables", spec := "johabSyllables", apart := false, narrowed := true }
def JohabSyllablesUptoSaid : Prop := johabSyllablesUptoRow.holds Try.pinned (OpenSpec.upto johabSyllablesSpec)

/-- 'dragomanlaw19.JohabPlain', WHERE WHAT IT READS IS OF BULK AT MOST 1048576: true; the input reads as it did. -/
def johabPlainUptoRow : OpenClaim := { program := "ytdphkpjamclhjaa", sum := "f7b0fc5f58a6921d6727f61b30853d551510af3fcaed7dcc61fe3d7373df3356", func := "dragoman/dragomanlaw19.JohabPlain", spec := "johabPlain", apart := false, narrowed := true }
def JohabPlainUptoSaid : Prop := johabPlainUptoRow.holds Try.pinned (OpenSpec.upto johabPlainSpec)

end Rows
end Go.Proofs.Ytdphkpjamclhjaa
