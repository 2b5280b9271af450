/- What the laws of layer 23 want of the program, in the door's seat. -/
import Derived.Test.YtljkncgbabiojaaDoorPP23
import Derived.Test.YtljkncgbabiojaaDoorPT23
import Derived.Test.YtljkncgbabiojaaDoorPH23
import Derived.Test.YtljkncgbabiojaaDoorPK23
namespace Go.Proofs.YtljkncgbabiojaaDoor.C23
open Go.ChangeShapes Go.WideShapes Go.ChangeAt Go.RowKit Go.Proofs.YtljkncgbabiojaaDoor.Mem Go.Proofs.YtljkncgbabiojaaDoor.El Go.Proofs.YtljkncgbabiojaaDoor.St Go.Proofs.YtljkncgbabiojaaDoor.Ri Go.Proofs.YtljkncgbabiojaaDoor.Sx Go.Proofs.YtljkncgbabiojaaDoor.Cb Go.Proofs.YtljkncgbabiojaaDoor.Ar
set_option linter.unusedVariables false
set_option linter.unusedSimpArgs false

theorem pParse (s : List UInt8) (w : World) (hw : VM w) : Calls Tryd.prog 6 #[.string (str s)] w fun e w' => e = .returned (prV (prs s)) ∧ w.grownBy w' none := by
  by_cases h : 64 < s.length
  · rw [prs_long h]
    exact pParse_long s h w
  · unfold prs
    rw [if_neg h]
    by_cases h0 : fd ((pts [] s).headD []) = 0
    · rw [if_pos h0]
      exact pParse_name s (by omega) h0 w hw
    · rw [if_neg h0]
      have := fun F hF => (if ht : (pts [] s).tail = [] then pParse_one s (by omega) h0 F hF ht w hw else pParse_more s (by omega) h0 F hF ht w hw)
      cases hf : fl (pts [] s).tail false false with
      | none => exact this none (Hid.mk' hf)
      | some p => obtain ⟨t, i⟩ := p; exact this (some (t, i)) (Hid.mk' hf)
theorem conD : ConD VM where
  keep h g := h.keep g
  alias k hk w _ := pAlias k w
  name k hk w _ := pName k w
  kinds w _ := pKinds w
  looks s hs w _ := pLooks s hs _ _ (Hid.mk' ⟨rfl, rfl⟩) w
  parse s hs w hw := pParse s w hw
  print k hk t i w _ := pPrint_any k t i w
end Go.Proofs.YtljkncgbabiojaaDoor.C23
