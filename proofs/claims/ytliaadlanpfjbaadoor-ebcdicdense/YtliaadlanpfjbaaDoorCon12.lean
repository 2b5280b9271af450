/- The contracts that the laws of layer 12 want of the program, over any condition that new blocks keep; the first law's walk. -/
import Derived.Test.YtliaadlanpfjbaaDoorFl12
import Derived.Test.YtliaadlanpfjbaaDoorBk12
import Derived.Test.YtliaadlanpfjbaaDoorBlk
namespace Go.Proofs.YtliaadlanpfjbaaDoor.C12
open Go.ChangeShapes Go.WideShapes Go.ChangeAt Go.RowKit Go.Proofs.YtliaadlanpfjbaaDoor.Mem Go.Proofs.YtliaadlanpfjbaaDoor.El Go.Proofs.YtliaadlanpfjbaaDoor.Ru
set_option linter.unusedVariables false
set_option linter.unusedSimpArgs false

def I64 (k : Int) : Prop := -9223372036854775808 ≤ k ∧ k ≤ 9223372036854775807
def I32 (k : Int) : Prop := -2147483648 ≤ k ∧ k ≤ 2147483647
structure Con (P : World → Prop) : Prop where
  keep : ∀ {w w' : World}, P w → w.grownBy w' none → P w'
  has : ∀ (k : Int) (hk : I64 k) (H : Bool) (hH : Hid (decide (k ∈ kinds) = H)) (w : World), P w → Calls Tryd.prog 13 #[.int .i64 k] w fun e w' => e = .returned (.bool H) ∧ w.grownBy w' none
  scalar : ∀ (k : Int) (hk : I64 k) (b : Nat) (hb : b < 256) (w : World) (R : Option Nat) (hR : Hid (scI k b = R)), P w → Calls Tryd.prog 9 #[.int .i64 k, .int .u8 (b : Int)] w fun e w' => e = .returned (.tuple #[.int .i32 ((R.getD 0 : Nat) : Int), .bool R.isSome]) ∧ w.grownBy w' none
  byte : ∀ (k : Int) (hk : I64 k) (u : Int) (hu : I32 u) (w : World) (R : Option Nat) (hR : Hid (byI k u = R)), P w → Calls Tryd.prog 11 #[.int .i64 k, .int .i32 u] w fun e w' => e = .returned (.tuple #[.int .u8 ((R.getD 0 : Nat) : Int), .bool R.isSome]) ∧ w.grownBy w' none
  flat : ∀ (k : Int) (hk : I64 k) (w : World) (F : List Int) (hF : Hid (flR k = F)), P w → Calls Tryd.prog 8 #[.int .i64 k] w fun e w' => ∃ ro rc, e = .returned (.slice ro F.length rc) ∧ RuE.Own w' ro rc F ∧ w.grownBy w' none ∧ (∀ g, blk ro = some g → w.heap.size ≤ g)
