/- The program's Scalar and Row of layer 15: walks. -/
import Derived.Test.YtpkhkeamnfoekaaRZ15
import Derived.Test.YtpkhkeamnfoekaaRD15
namespace Go.Proofs.Ytpkhkeamnfoekaa.C15
open Go.ChangeShapes Go.WideShapes Go.ChangeAt Go.RowKit Go.Proofs.Ytpkhkeamnfoekaa.Mem Go.Proofs.Ytpkhkeamnfoekaa.Ar
set_option linter.unusedVariables false
set_option linter.unusedSimpArgs false

theorem tabI_at {k : Int} (hk : k ∈ kinds) {j : Nat} (hj : j < 94) : (tabI k)[j]'(by rw [tabI_len]; exact hj) = (cellR k j : Int) := by
  have hjl : j < (tab k).length := by rw [tab_len hk]; exact hj
  have e : (tabI k)[j]? = some (cellR k j : Int) := by
    unfold tabI
    rw [if_pos hk, List.getElem?_map, List.getElem?_eq_getElem hjl]
    unfold cellR
    rw [List.getD_eq_getElem?_getD, List.getElem?_eq_getElem hjl]
    rfl
  exact (List.getElem?_eq_some_iff.1 e).2
end Go.Proofs.Ytpkhkeamnfoekaa.C15
