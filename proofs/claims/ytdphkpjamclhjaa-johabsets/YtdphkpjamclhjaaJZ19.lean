/- The laws of layer 19 over the program's contracts (text JQ19: con). -/
import Derived.Test.YtdphkpjamclhjaaEB19
import Derived.Test.YtdphkpjamclhjaaJY19
import Derived.Test.YtdphkpjamclhjaaJL19
import Derived.Test.YtdphkpjamclhjaaJQ19
import Derived.Below
namespace Go.Proofs.Ytdphkpjamclhjaa.C19
open Go.RowKit Go.Proofs.Ytdphkpjamclhjaa.Mem
set_option linter.unusedVariables false

theorem below_g {w w' : World} (h : w.grownBy w' none) : Below w.heap.size w w' := ⟨h.os, h.tape, h.output, h.size, fun k hk => h.block k hk (by simp)⟩
theorem wf64 {n : Int} (h : (Lit.int .i64 n).wf = true) : I64 n := by
  rw [Lit.wf_int_iff] at h
  exact h
theorem wf32 {n : Int} (h : (Lit.int .i32 n).wf = true) : I32 n := by
  rw [Lit.wf_int_iff] at h
  exact h
theorem gets_law (ao : Option Addr) (cap : Nat) (L : List UInt8) (w : World) (hB : Bytes w ao L) (hLc : L.length ≤ cap) (hcm : cap ≤ 140737488351232) : Calls Try.prog 3 #[.slice ao L.length cap] w fun e w' => e = .returned (.bool true) ∧ Below w.heap.size w w' :=
  (gets_walk con ao cap L w trivial hB hLc hcm).mono (fun e w' h => ⟨h.1, below_g h.2⟩)
theorem sets_law (b : Int) (hb : (Lit.int .i32 b).wf = true) (w : World) : Calls Try.prog 4 #[.int .i32 b] w fun e w' => e = .returned (.bool true) ∧ Below w.heap.size w w' :=
  (sets_walk con b (wf32 hb) w trivial).mono (fun e w' h => ⟨h.1, below_g h.2⟩)
theorem packs_law (a b c d : Int) (ha : (Lit.int .i64 a).wf = true) (hb : (Lit.int .i64 b).wf = true) (hc : (Lit.int .i64 c).wf = true) (hd : (Lit.int .i64 d).wf = true) (w : World) : Calls Try.prog 5 #[.int .i64 a, .int .i64 b, .int .i64 c, .int .i64 d] w fun e w' => e = .returned (.bool true) ∧ Below w.heap.size w w' :=
  (packs_walk con a b c d (wf64 ha) (wf64 hb) (wf64 hc) (wf64 hd) w trivial).mono (fun e w' h => ⟨h.1, below_g h.2⟩)
theorem syl_law (a : Int) (ha : (Lit.int .i64 a).wf = true) (w : World) : Calls Try.prog 7 #[.int .i64 a] w fun e w' => e = .returned (.bool true) ∧ Below w.heap.size w w' :=
  (syl_walk con a w trivial).mono (fun e w' h => ⟨h.1, below_g h.2⟩)
theorem back_law (b : Int) (ao : Option Addr) (cap : Nat) (L : List UInt8) (w : World) (hb : (Lit.int .i32 b).wf = true) (hB : Bytes w ao L) (hLc : L.length ≤ cap) (hcm : cap ≤ 140737488351232) : Calls Try.prog 6 #[.int .i32 b, .slice ao L.length cap] w fun e w' => e = .returned (.bool true) ∧ Below w.heap.size w w' :=
  (back_walk con b (wf32 hb) ao cap L w trivial hB hLc hcm).mono (fun e w' h => ⟨h.1, below_g h.2⟩)
theorem plain_law (b : Int) (ao : Option Addr) (cap : Nat) (L : List UInt8) (w : World) (hb : (Lit.int .i32 b).wf = true) (hB : Bytes w ao L) (hLc : L.length ≤ cap) (hcm : cap ≤ 140737488351232) : Calls Try.prog 8 #[.int .i32 b, .slice ao L.length cap] w fun e w' => e = .returned (.bool true) ∧ Below w.heap.size w w' :=
  (plain_walk con b (wf32 hb) ao cap L w trivial hB hLc hcm).mono (fun e w' h => ⟨h.1, below_g h.2⟩)
end Go.Proofs.Ytdphkpjamclhjaa.C19
