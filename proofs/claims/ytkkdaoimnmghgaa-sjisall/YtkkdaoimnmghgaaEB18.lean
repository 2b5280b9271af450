/- SjisBack, whole: the ways joined. -/
import Derived.Test.YtkkdaoimnmghgaaEBa18
import Derived.Test.YtkkdaoimnmghgaaEBb18
import Derived.Test.YtkkdaoimnmghgaaEBc18
namespace Go.Proofs.Ytkkdaoimnmghgaa.C18
open Go.ChangeShapes Go.WideShapes Go.ChangeAt Go.RowKit Go.Proofs.Ytkkdaoimnmghgaa.Mem Go.Proofs.Ytkkdaoimnmghgaa.Cb Go.Proofs.Ytkkdaoimnmghgaa.Sp
set_option linter.unusedVariables false

theorem back_walk {P : World → Prop} (C : Con P) (u : Int) (hu : I32 u) (ao : Option Addr) (cap : Nat) (L : List UInt8) (w : World) (hw : P w) (hB : Bytes w ao L) (hLc : L.length ≤ cap) (hcm : cap ≤ 140737488351232) : Calls Try.prog 7 #[.int .i32 u, .slice ao L.length cap] w fun e w' => e = .returned (.bool true) ∧ w.grownBy w' none := by
  rcases se_two u with hS | ⟨bs, hS, hbl⟩
  · rcases got_ways L with hG | ⟨m, hG, h1, h2, h3⟩ | ⟨m, v, b2, hG, hv, hS2⟩
    · exact back_none_more C u ao cap L hu hS hG w hw hB hLc hcm
    · exact back_none_ill C u ao cap L hu hS m hG h1 h2 h3 w hw hB hLc hcm
    · rcases se_two (v : Int) with h | ⟨b3, h, hl⟩
      · rw [h] at hS2; exact absurd (show (11 : Int) = 0 from congrArg Prod.fst hS2) (by decide)
      · obtain rfl : b3 = b2 := congrArg Prod.snd (h.symm.trans hS2)
        exact back_none_ok C u ao cap L hu hS m v b3 hG hv hl hS2 w hw hB hLc hcm
  · rcases got_ways L with hG | ⟨m, hG, h1, h2, h3⟩ | ⟨m, v, b2, hG, hv, hS2⟩
    · exact back_ok_more C u ao cap L hu bs hbl hS hG w hw hB hLc hcm
    · exact back_ok_ill C u ao cap L hu bs hbl hS m hG h1 h2 h3 w hw hB hLc hcm
    · rcases se_two (v : Int) with h | ⟨b3, h, hl⟩
      · rw [h] at hS2; exact absurd (show (11 : Int) = 0 from congrArg Prod.fst hS2) (by decide)
      · obtain rfl : b3 = b2 := congrArg Prod.snd (h.symm.trans hS2)
        exact back_ok_ok C u ao cap L hu bs hbl hS m v b3 hG hv hl hS2 w hw hB hLc hcm
end Go.Proofs.Ytkkdaoimnmghgaa.C18
