/- The document's Print of layer 23: walks. -/
import Derived.Test.YtljkncgbabiojaaNR23
namespace Go.Proofs.Ytljkncgbabiojaa.C23
open Go.ChangeShapes Go.WideShapes Go.ChangeAt Go.RowKit Go.Proofs.Ytljkncgbabiojaa.Mem Go.Proofs.Ytljkncgbabiojaa.El Go.Proofs.Ytljkncgbabiojaa.St Go.Proofs.Ytljkncgbabiojaa.Ri Go.Proofs.Ytljkncgbabiojaa.Sx Go.Proofs.Ytljkncgbabiojaa.Cb Go.Proofs.Ytljkncgbabiojaa.Ar
set_option linter.unusedVariables false
set_option linter.unusedSimpArgs false

theorem str_app (A B : List UInt8) : str A ++ str B = str (A ++ B) := by
  have e : (str A ++ str B).data = (str (A ++ B)).data := by
    rw [ByteArray.data_append]
    simp [str]
  cases h1 : str A ++ str B
  cases h2 : str (A ++ B)
  rw [h1, h2] at e
  exact congrArg _ e
theorem nm_len (k : Int) : (nm k).length ≤ 20 := by
  unfold nm
  cases h : al k with
  | nil => simp
  | cons a l => exact ((al_short k).2 a (by rw [h]; simp)).2
end Go.Proofs.Ytljkncgbabiojaa.C23
