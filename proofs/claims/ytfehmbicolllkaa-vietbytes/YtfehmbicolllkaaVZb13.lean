/- VietBytes as a law over the program's contracts. -/
import Derived.Test.YtfehmbicolllkaaWB13
import Derived.Test.YtfehmbicolllkaaVZ13
namespace Go.Proofs.Ytfehmbicolllkaa.C13
open Go.RowKit Go.Proofs.Ytfehmbicolllkaa.Mem
theorem bytes_law (a : Int) (ha : (Lit.int .u8 a).wf = true) (w : World) : Calls Try.prog 8 #[.int .u8 a] w fun e w' => e = .returned (.bool true) ∧ Below w.heap.size w w' := by
  obtain ⟨b, rfl, hb⟩ := u8_wf ha
  have h := bytes_walk con (b8 b) w trivial
  rw [b8_toNat hb] at h
  exact h.mono (fun e w' h => ⟨h.1, below_g h.2⟩)
end Go.Proofs.Ytfehmbicolllkaa.C13
