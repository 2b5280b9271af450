/- The program's contracts of layer 22. -/
import Derived.Test.YtjhdepbiakekaaaTW22
import Derived.Test.YtjhdepbiakekaaaTQb22
import Derived.Test.YtjhdepbiakekaaaTQc22
namespace Go.Proofs.Ytjhdepbiakekaaa.C22
open Go.ChangeShapes Go.WideShapes Go.ChangeAt Go.RowKit Go.Proofs.Ytjhdepbiakekaaa.Mem Go.Proofs.Ytjhdepbiakekaaa.El Go.Proofs.Ytjhdepbiakekaaa.St Go.Proofs.Ytjhdepbiakekaaa.Ru Go.Proofs.Ytjhdepbiakekaaa.Cb Go.Proofs.Ytjhdepbiakekaaa.Sp
set_option linter.unusedVariables false

theorem con : Con (fun _ => True) where
  keep := fun _ _ => trivial
  cand := fun u _ w _ => pcand_any u w
  all := fun w _ => pall_any w
  first := fun u _ L _ w _ => pfirst_any u L w _ (Hid.mk' rfl) _ (Hid.mk' rfl)
end Go.Proofs.Ytjhdepbiakekaaa.C22
