/- What the rows of layer 23 list, laid in a world; the library's variable that they do not list, off the world's shape. -/
import Derived.Test.YtljkncgbabiojaaDoorPS23
import Derived.LaidMore
import Derived.Lay
import Derived.Shelf.Vars
import Derived.Stop.Joined
namespace Go.Proofs.YtljkncgbabiojaaDoor.C23
open Go.ChangeShapes Go.WideShapes Go.ChangeAt Go.RowKit
set_option linter.unusedVariables false

abbrev laid1 : List (String × DataW Unit) := [("unicode/utf8.acceptRanges", Rows.laid_unicode_utf8_acceptRanges), ("unicode/utf8.first", Rows.laid_unicode_utf8_first)]
theorem laid_met (os : Os) (args : Array Value) : laidMetH Tryd.prog laid1 ((World.laidAll Tryd.prog os laid1).forCall (fun _ _ => 0) ⟨#[], args, []⟩).memory := by
  rw [MakeChecks.laidMetH_plain _ _ _ (by kernel_rfl)]
  exact laidMet_laidAll _ (by kernel_rfl) (by kernel_rfl)
theorem vm_of {W : World} (h : W.ShapedOpen Tryd.prog) : VM W :=
  cell_of_shapedOpen_int (t := 3) (zero := #[.int .i64 0]) h (of_decide_eq_true (by kernel_rfl)) (by kernel_rfl) rfl (by kernel_rfl) (by kernel_rfl) Tryd.underlying3
end Go.Proofs.YtljkncgbabiojaaDoor.C23
