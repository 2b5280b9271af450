/- What a step gets, as plain functions and as values. -/
import Derived.Test.YtkfcciacoplgmaaFits
namespace Go.Proofs.Ytkfcciacoplgmaa.Wd
open Go.Proofs.Ytkfcciacoplgmaa.Ucs Go.Proofs.Ytkfcciacoplgmaa.Mem
abbrev gotS (e n k a md : Int) : Value := .agg #[.int .i64 e, .int .i64 n, .int .i64 k, .int .i32 a, .int .i32 0, .int .i64 md, .int .i64 0, .int .u32 0, .int .i32 0]
/-- A step: its error, how many bytes, how many scalars, the scalar, the mode behind it. -/
structure Gt where
  e : Int
  n : Int
  k : Int
  a : Int
  md : Int
abbrev Gt.val (g : Gt) : Value := gotS g.e g.n g.k g.a g.md
def more : Gt := ⟨1, 0, 0, 0, 0⟩
def ill (n md : Int) : Gt := ⟨10, n, 0, 0, md⟩
def ok (n a md : Int) : Gt := ⟨0, n, 1, a, md⟩
/-- The step at the front of bytes in one order, the mode behind it being md. -/
def plainR (p low : Bool) (n : Nat) (L : List UInt8) (md : Int) : Gt :=
  if L.length < n then more
  else if p = true ∧ hiB (num low n L : Int) = true then
    (if L.length < n + n then more
     else if loB (num low n (L.drop n) : Int) = true then ok (n + n) (joinV (num low n L : Int) (num low n (L.drop n) : Int)) md else ill n md)
  else if scB (num low n L : Int) = true then ok n (num low n L : Int) md else ill n md
/-- The step of a kind in a state. -/
def getR (k md bi ac he : Int) (L : List UInt8) : Gt :=
  match fm k with
  | none => ⟨5, 0, 0, 0, 0⟩
  | some (n, p, m, low) =>
    if fitB m md bi ac he = false then ⟨7, 0, 0, 0, 0⟩
    else if (m && decide (md = 0)) = true then
      (if L.length < n then more else if num false n L = 65279 then ⟨0, n, 0, 0, 1⟩ else if num true n L = 65279 then ⟨0, n, 0, 0, 2⟩ else plainR p false n L 1)
    else plainR p (low || decide (md = 2)) n L md
end Go.Proofs.Ytkfcciacoplgmaa.Wd
