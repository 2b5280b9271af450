/- What the laws of layer 23 want of the program; NamesTells, NamesLooks: walks. -/
import Derived.Test.YtljkncgbabiojaaDoorNQ23
import Derived.WalkSpells
import Derived.WalkLawsBesides
namespace Go.Proofs.YtljkncgbabiojaaDoor.C23
open Go.ChangeShapes Go.WideShapes Go.ChangeAt Go.RowKit Go.Proofs.YtljkncgbabiojaaDoor.Mem Go.Proofs.YtljkncgbabiojaaDoor.El Go.Proofs.YtljkncgbabiojaaDoor.St Go.Proofs.YtljkncgbabiojaaDoor.Ri Go.Proofs.YtljkncgbabiojaaDoor.Sx Go.Proofs.YtljkncgbabiojaaDoor.Cb Go.Proofs.YtljkncgbabiojaaDoor.Ar
set_option linter.unusedVariables false
set_option linter.unusedSimpArgs false

def I64 (k : Int) : Prop := -9223372036854775808 ≤ k ∧ k ≤ 9223372036854775807
def lkE (K : Nat) : Int := if K = 0 then 20 else 0
structure Con (P : World → Prop) : Prop where
  keep : ∀ {w w' : World}, P w → w.grownBy w' none → P w'
  alias : ∀ (k : Int) (hk : I64 k) (w : World), P w → Calls Tryd.prog 12 #[.int .i64 k] w fun e w' => STold w (al k) e w'
  name : ∀ (k : Int) (hk : I64 k) (w : World), P w → Calls Tryd.prog 14 #[.int .i64 k] w fun e w' => e = .returned (.string (str (nm k))) ∧ w.grownBy w' none
  kinds : ∀ (w : World), P w → Calls Tryd.prog 11 #[] w fun e w' => ∃ ao cap, e = .returned (.slice ao 56 cap) ∧ IiE.Own w' ao cap kdI ∧ w.grownBy w' none ∧ ∀ g, blk ao = some g → w.heap.size ≤ g
  looks : ∀ (s : List UInt8) (hs : s.length ≤ 140737488351232) (w : World), P w → Calls Tryd.prog 13 #[.iface 9 (.string (str s))] w fun e w' => e = .returned (.tuple #[.int .i64 (fd s : Int), .int .i64 (lkE (fd s))]) ∧ w.grownBy w' none
  lookn : ∀ (n : Int) (hn : I64 n) (w : World), P w → Calls Tryd.prog 13 #[.iface 3 (.int .i64 n)] w fun e w' => e = .returned (if nm n = [] then .tuple #[.int .i64 0, .int .i64 5] else .tuple #[.int .i64 n, .int .i64 0]) ∧ w.grownBy w' none
  looke : ∀ (v : Value) (hv : v = .nilIface ∨ ∃ (T : Nat) (x : Value), (T = 4 ∨ T = 3 ∨ T = 2) ∧ v = .iface T x) (w : World), P w → Calls Tryd.prog 13 #[v] w fun e w' => e = .returned (.tuple #[.int .i64 0, .int .i64 3]) ∧ w.grownBy w' none
structure ConD (P : World → Prop) : Prop where
  keep : ∀ {w w' : World}, P w → w.grownBy w' none → P w'
  alias : ∀ (k : Int) (hk : I64 k) (w : World), P w → Calls Tryd.prog 12 #[.int .i64 k] w fun e w' => STold w (al k) e w'
  name : ∀ (k : Int) (hk : I64 k) (w : World), P w → Calls Tryd.prog 14 #[.int .i64 k] w fun e w' => e = .returned (.string (str (nm k))) ∧ w.grownBy w' none
  kinds : ∀ (w : World), P w → Calls Tryd.prog 11 #[] w fun e w' => ∃ ao cap, e = .returned (.slice ao 56 cap) ∧ IiE.Own w' ao cap kdI ∧ w.grownBy w' none ∧ ∀ g, blk ao = some g → w.heap.size ≤ g
  looks : ∀ (s : List UInt8) (hs : s.length ≤ 140737488351232) (w : World), P w → Calls Tryd.prog 13 #[.iface 9 (.string (str s))] w fun e w' => e = .returned (.tuple #[.int .i64 (fd s : Int), .int .i64 (lkE (fd s))]) ∧ w.grownBy w' none
  parse : ∀ (s : List UInt8) (hs : s.length ≤ 140737488351232) (w : World), P w → Calls Tryd.prog 6 #[.string (str s)] w fun e w' => e = .returned (prV (prs s)) ∧ w.grownBy w' none
  print : ∀ (k : Int) (hk : I64 k) (t i : Bool) (w : World), P w → Calls Tryd.prog 8 #[.agg (wC k t i)] w fun e w' => e = .returned (.string (str (prt k t i))) ∧ w.grownBy w' none
end Go.Proofs.YtljkncgbabiojaaDoor.C23
