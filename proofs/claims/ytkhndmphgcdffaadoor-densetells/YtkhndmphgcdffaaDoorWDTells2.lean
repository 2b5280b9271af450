/- DenseTells: the walks joined. -/
import Derived.Test.YtkhndmphgcdffaaDoorWDTells
namespace Go.Proofs.YtkhndmphgcdffaaDoor.Dn
open Go.ChangeShapes Go.WideShapes Go.ChangeAt Go.RowKit Go.Maps Go.Proofs.YtkhndmphgcdffaaDoor.Mem Go.Proofs.YtkhndmphgcdffaaDoor.Ucs Go.Proofs.YtkhndmphgcdffaaDoor.U8

theorem tells_walk (a0 : Int) (s : ByteArray) (u : Int) (h0 : -2147483648 ≤ u) (h1 : u ≤ 2147483647) (hmax : s.size ≤ 9223372036854775807) (w : World) (hF : Forms w) :
    Calls Tryd.prog 3 #[.int .i64 a0, .string s, .int .i32 u] w fun e w' => e = .returned (.bool true) ∧ w.grownBy w' none := by
  by_cases hs : 2000 < s.size
  · exact tells_long a0 s u hs hmax w
  · by_cases hE : newE a0 s.toList = 0
    · obtain ⟨f, rfl, hf, hsc, hu, hl, _⟩ := newE_zero hE
      exact tells_yes f s u (by omega) h0 h1 w hF _ hf hsc hu hl
    · exact tells_no a0 s u (by omega) w hF _ (Hid.mk' rfl) hE
end Go.Proofs.YtkhndmphgcdffaaDoor.Dn
