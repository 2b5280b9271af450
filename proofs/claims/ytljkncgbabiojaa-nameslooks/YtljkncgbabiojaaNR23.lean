/- The document's Parse and Print of layer 23: walks. -/
import Derived.Test.YtljkncgbabiojaaNP23
import Derived.Test.YtljkncgbabiojaaCb
import Derived.Test.YtljkncgbabiojaaAr
namespace Go.Proofs.Ytljkncgbabiojaa.C23
open Go.ChangeShapes Go.WideShapes Go.ChangeAt Go.RowKit Go.Proofs.Ytljkncgbabiojaa.Mem Go.Proofs.Ytljkncgbabiojaa.El Go.Proofs.Ytljkncgbabiojaa.St Go.Proofs.Ytljkncgbabiojaa.Ri Go.Proofs.Ytljkncgbabiojaa.Sx Go.Proofs.Ytljkncgbabiojaa.Cb Go.Proofs.Ytljkncgbabiojaa.Ar
set_option linter.unusedVariables false
set_option linter.unusedSimpArgs false

/-- What is asked for behind a name. -/
def fl : List (List UInt8) → Bool → Bool → Option (Bool × Bool)
  | [], t, i => some (t, i)
  | x :: r, t, i => if large x = [84, 82, 65, 78, 83, 76, 73, 84] then fl r true i else if large x = [73, 71, 78, 79, 82, 69] then fl r t true else if large x = [] then fl r t i else none
/-- What Parse answers: the kind, what is asked for, the error. -/
def prs (s : List UInt8) : Int × Bool × Bool × Int :=
  if 64 < s.length then (0, false, false, 8) else
  if fd ((pts [] s).headD []) = 0 then (0, false, false, 20) else
  match fl (pts [] s).tail false false with
  | some (t, i) => ((fd ((pts [] s).headD []) : Nat), t, i, 0)
  | none => (0, false, false, 3)
/-- What Print answers. -/
def prt (k : Int) (t i : Bool) : List UInt8 := if nm k = [] then [] else nm k ++ (if t then [47, 47, 84, 82, 65, 78, 83, 76, 73, 84] else []) ++ (if i then [47, 47, 73, 71, 78, 79, 82, 69] else [])
abbrev wC (k : Int) (t i : Bool) : Array Value := #[.int .i64 k, .bool t, .bool i]
theorem wC_one (k : Int) (t i : Bool) : (wC k t i).all (·.oneCell') = true := by kernel_rfl
theorem pts_ne : ∀ (L cur : List UInt8), pts cur L ≠ []
  | [], cur => by rw [pts]; simp
  | [a], cur => by rw [pts]; simp
  | a :: b :: r, cur => by
    rw [pts_cons]
    split
    · simp
    · exact pts_ne (b :: r) _
theorem pts_len : ∀ (L cur : List UInt8), (pts cur L).length ≤ L.length + 1 ∧ ∀ x ∈ pts cur L, x.length ≤ cur.length + L.length
  | [], cur => by rw [pts]; simp
  | [a], cur => by rw [pts]; simp
  | a :: b :: r, cur => by
    rw [pts_cons]
    split
    · have h := pts_len r []
      refine ⟨by simp only [List.length_cons]; omega, fun x hx => ?_⟩
      rcases List.mem_cons.1 hx with rfl | hx
      · simp only [List.length_cons]; omega
      · have := h.2 x hx; simp only [List.length_cons, List.length_nil] at *; omega
    · have h := pts_len (b :: r) (cur ++ [a])
      refine ⟨by simp only [List.length_cons] at *; omega, fun x hx => ?_⟩
      have := h.2 x hx
      simp only [List.length_cons, List.length_append, List.length_nil] at *
      omega
/-- What Parse answers of a name that is one. -/
def pyV (K : Nat) (F : Option (Bool × Bool)) : Value := match F with | some (t, i) => .tuple #[.agg (wC (K : Int) t i), .int .i64 0] | none => .tuple #[.agg (wC 0 false false), .int .i64 3]
theorem prs_long {s : List UInt8} (h : 64 < s.length) : prs s = (0, false, false, 8) := by unfold prs; rw [if_pos h]
def prV (p : Int × Bool × Bool × Int) : Value := .tuple #[.agg (wC p.1 p.2.1 p.2.2.1), .int .i64 p.2.2.2]
end Go.Proofs.Ytljkncgbabiojaa.C23
