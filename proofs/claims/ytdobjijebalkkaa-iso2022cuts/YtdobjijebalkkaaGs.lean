/- Steps with a Mode: what Get and Set answer, as values; a text as a list of steps. -/
import Derived.Test.YtdobjijebalkkaaSp
namespace Go.Proofs.Ytdobjijebalkkaa.Sp
open Go.ChangeShapes Go.WideShapes Go.ChangeAt Go.RowKit Go.Proofs.Ytdobjijebalkkaa.Mem Go.Proofs.Ytdobjijebalkkaa.Cb
set_option linter.unusedVariables false

abbrev sC (md bi ac he : Int) : Array Value := #[.int .i64 md, .int .i64 bi, .int .u32 ac, .int .i32 he]
abbrev stV (md bi ac he : Int) : Value := .agg (sC md bi ac he)
abbrev gM (e n k a md : Int) : Array Value := gC e n k a 0 md 0 0 0
abbrev pM (e : Int) (s : ByteArray) (md : Int) : Array Value := pC e s md 0 0 0
theorem infoS : (Try.prog.info? 24).map (·.size) = some 4 := by kernel_rfl
theorem zeroS (w : World) : (zeroValue 24).run Try.prog w = .ok (.agg (sC 0 0 0 0)) w := by kernel_rfl
theorem sC_one (md bi ac he : Int) : (sC md bi ac he).all (·.oneCell') = true := by kernel_rfl

/-- A step: its bytes, what it tells, the Mode behind it. -/
abbrev Stp := List UInt8 × Option Int × Nat
/-- What a Get answers at a step: no error, its bytes' count, whether and what it tells, the Mode. -/
def tells (s : Stp) : Int × Int × Int × Int × Int := (0, (s.1.length : Int), (if s.2.1.isSome then 1 else 0), s.2.1.getD 0, (s.2.2 : Int))
def SGood (G : Nat → List UInt8 → Int × Int × Int × Int × Int) : Nat → List Stp → Prop
  | _, [] => True
  | m, s :: S => (1 ≤ s.1.length ∧ s.1.length ≤ 4 ∧ (∀ b ∈ s.1, b.toNat < 128) ∧ ∀ M, G m (s.1 ++ M) = tells s) ∧ SGood G s.2.2 S
def lastM : Nat → List Stp → Nat
  | m, [] => m
  | _, s :: S => lastM s.2.2 S
def txt (S : List Stp) : List UInt8 := S.flatMap (fun s => s.1)
def told (S : List Stp) : List Int := S.filterMap (fun s => s.2.1)
theorem lastM_app (m : Nat) (S T : List Stp) : lastM m (S ++ T) = lastM (lastM m S) T := by
  induction S generalizing m with
  | nil => rfl
  | cons s S ih => exact ih _
theorem good_app {G : Nat → List UInt8 → Int × Int × Int × Int × Int} {m : Nat} {S T : List Stp} (h1 : SGood G m S) (h2 : SGood G (lastM m S) T) : SGood G m (S ++ T) := by
  induction S generalizing m with
  | nil => exact h2
  | cons s S ih => exact ⟨h1.1, ih h1.2 h2⟩
theorem txt_app (S T : List Stp) : txt (S ++ T) = txt S ++ txt T := by unfold txt; exact List.flatMap_append
theorem told_app (S T : List Stp) : told (S ++ T) = told S ++ told T := by unfold told; exact List.filterMap_append
theorem txt_cons (s : Stp) (S : List Stp) : txt (s :: S) = s.1 ++ txt S := rfl
theorem told_some (c : List UInt8) (u : Int) (m : Nat) (S : List Stp) : told ((c, some u, m) :: S) = u :: told S := rfl
theorem told_none (c : List UInt8) (m : Nat) (S : List Stp) : told ((c, none, m) :: S) = told S := rfl
theorem good_one {G : Nat → List UInt8 → Int × Int × Int × Int × Int} {m : Nat} {s : Stp} (h1 : 1 ≤ s.1.length) (h2 : s.1.length ≤ 4) (h3 : ∀ b ∈ s.1, b.toNat < 128) (h4 : ∀ M, G m (s.1 ++ M) = tells s) : SGood G m [s] := ⟨⟨h1, h2, h3, h4⟩, trivial⟩
end Go.Proofs.Ytdobjijebalkkaa.Sp
