/- JohabBack, whole: the ways joined. -/
import Derived.Test.YtdphkpjamclhjaaEBa19
import Derived.Test.YtdphkpjamclhjaaEBb19
import Derived.Test.YtdphkpjamclhjaaEBc19
namespace Go.Proofs.Ytdphkpjamclhjaa.C19
open Go.ChangeShapes Go.WideShapes Go.ChangeAt Go.RowKit Go.Proofs.Ytdphkpjamclhjaa.Mem Go.Proofs.Ytdphkpjamclhjaa.Cb Go.Proofs.Ytdphkpjamclhjaa.Sp
set_option linter.unusedVariables false

theorem back_walk {P : World → Prop} (C : Con P) (u : Int) (hu : I32 u) (ao : Option Addr) (cap : Nat) (L : List UInt8) (w : World) (hw : P w) (hB : Bytes w ao L) (hLc : L.length ≤ cap) (hcm : cap ≤ 140737488351232) : Calls Try.prog 6 #[.int .i32 u, .slice ao L.length cap] w fun e w' => e = .returned (.bool true) ∧ w.grownBy w' none := by
  rcases se_two u with hS | ⟨bs, hS, hbl⟩
  · rcases got_ways L with hG | ⟨m, hG, h1, h2, h3⟩ | ⟨m, v, hG, hv, h1, h2, h3, hS2⟩
    · exact back_none_more C u ao cap L hu hS hG w hw hB hLc hcm
    · exact back_none_ill C u ao cap L hu hS m hG h1 h2 h3 w hw hB hLc hcm
    · exact back_none_ok C u ao cap L hu hS m v hG hv h1 h2 h3 hS2 w hw hB hLc hcm
  · rcases got_ways L with hG | ⟨m, hG, h1, h2, h3⟩ | ⟨m, v, hG, hv, h1, h2, h3, hS2⟩
    · exact back_ok_more C u ao cap L hu bs hbl hS hG w hw hB hLc hcm
    · exact back_ok_ill C u ao cap L hu bs hbl hS m hG h1 h2 h3 w hw hB hLc hcm
    · exact back_ok_ok C u ao cap L hu bs hbl hS m v hG hv h1 h2 h3 hS2 w hw hB hLc hcm
end Go.Proofs.Ytdphkpjamclhjaa.C19
