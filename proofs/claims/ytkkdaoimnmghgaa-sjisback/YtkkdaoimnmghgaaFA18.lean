/- SjisAll, whole. -/
import Derived.Test.YtkkdaoimnmghgaaFAa18
import Derived.Test.YtkkdaoimnmghgaaFAb18
namespace Go.Proofs.Ytkkdaoimnmghgaa.C18
open Go.ChangeShapes Go.WideShapes Go.ChangeAt Go.RowKit Go.Proofs.Ytkkdaoimnmghgaa.Mem Go.Proofs.Ytkkdaoimnmghgaa.Cb Go.Proofs.Ytkkdaoimnmghgaa.Sp
set_option linter.unusedVariables false
set_option linter.unusedSimpArgs false

theorem all_walk {P : World → Prop} (C : Con P) (x : Int) (a : Nat) (ha : a < 256) (w : World) (hw : P w) : Calls Try.prog 6 #[.int .i64 x, .int .u8 (a : Int)] w fun e w' => e = .returned (.bool true) ∧ w.grownBy w' none := by
  by_cases h1 : a < 129
  · exact all_NA C x a ha h1 w hw
  · by_cases h2 : a ≤ 159
    · exact all_LA C x a ha (by omega) h2 w hw
    · by_cases h3 : a < 224
      · exact all_NB C x a ha (by omega) h3 w hw
      · by_cases h4 : a ≤ 239
        · exact all_LB C x a ha (by omega) h4 w hw
        · exact all_NC C x a ha (by omega) w hw
end Go.Proofs.Ytkkdaoimnmghgaa.C18
