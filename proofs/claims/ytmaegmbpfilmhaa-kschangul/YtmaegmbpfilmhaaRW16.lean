/- The laws of layer 16 over the program's contracts. -/
import Derived.Test.YtmaegmbpfilmhaaRF16
import Derived.Test.YtmaegmbpfilmhaaRG16
import Derived.Test.YtmaegmbpfilmhaaRM16
import Derived.Test.YtmaegmbpfilmhaaRO16
import Derived.Test.YtmaegmbpfilmhaaRR16
import Derived.Below
namespace Go.Proofs.Ytmaegmbpfilmhaa.C16
open Go.RowKit Go.Proofs.Ytmaegmbpfilmhaa.Mem
set_option linter.unusedVariables false

theorem below_g {w w' : World} (h : w.grownBy w' none) : Below w.heap.size w w' := ⟨h.os, h.tape, h.output, h.size, fun k hk => h.block k hk (by simp)⟩
theorem wf64 {n : Int} (h : (Lit.int .i64 n).wf = true) : I64 n := by
  rw [Lit.wf_int_iff] at h
  exact h
theorem wf32 {n : Int} (h : (Lit.int .i32 n).wf = true) : I32 n := by
  rw [Lit.wf_int_iff] at h
  exact h
theorem wf8 {n : Int} (h : (Lit.int .u8 n).wf = true) : ∃ b : Nat, n = (b : Int) ∧ b < 256 := by
  rw [Lit.wf_int_iff] at h
  have h1 : 0 ≤ n ∧ n ≤ 255 := h
  exact ⟨n.toNat, by omega, by omega⟩
theorem tells_law (a b c : Int) (ha : (Lit.int .i64 a).wf = true) (hb : (Lit.int .i64 b).wf = true) (hc : (Lit.int .i32 c).wf = true) (w : World) : Calls Try.prog 3 #[.int .i64 a, .int .i64 b, .int .i32 c] w fun e w' => e = .returned (.bool true) ∧ Below w.heap.size w w' := by
  exact (tells_walk con a (wf64 ha) b (wf64 hb) c (wf32 hc) w trivial).mono (fun e w' h => ⟨h.1, below_g h.2⟩)
theorem rows_law (a : Int) (ha : (Lit.int .i64 a).wf = true) (w : World) : Calls Try.prog 4 #[.int .i64 a] w fun e w' => e = .returned (.bool true) ∧ Below w.heap.size w w' := by
  exact (rows_walk con a (wf64 ha) w trivial).mono (fun e w' h => ⟨h.1, below_g h.2⟩)
theorem back_law (a b : Int) (ha : (Lit.int .i64 a).wf = true) (hb : (Lit.int .i32 b).wf = true) (w : World) : Calls Try.prog 5 #[.int .i64 a, .int .i32 b] w fun e w' => e = .returned (.bool true) ∧ Below w.heap.size w w' := by
  exact (back_walk con a b (wf32 hb) w trivial).mono (fun e w' h => ⟨h.1, below_g h.2⟩)
theorem parts_law (a b c d : Int) (ha : (Lit.int .i64 a).wf = true) (hb : (Lit.int .i64 b).wf = true) (hc : (Lit.int .i64 c).wf = true) (hd : (Lit.int .i32 d).wf = true) (w : World) : Calls Try.prog 6 #[.int .i64 a, .int .i64 b, .int .i64 c, .int .i32 d] w fun e w' => e = .returned (.bool true) ∧ Below w.heap.size w w' := by
  exact (parts_walk conS a b c (wf64 ha) (wf64 hb) (wf64 hc) d (wf32 hd) w trivial).mono (fun e w' h => ⟨h.1, below_g h.2⟩)
theorem hangul_law (a b c d : Int) (ha : (Lit.int .i64 a).wf = true) (hb : (Lit.int .i64 b).wf = true) (hc : (Lit.int .i64 c).wf = true) (hd : (Lit.int .i64 d).wf = true) (w : World) : Calls Try.prog 7 #[.int .i64 a, .int .i64 b, .int .i64 c, .int .i64 d] w fun e w' => e = .returned (.bool true) ∧ Below w.heap.size w w' := by
  exact (hangul_walk con conS a b c d (wf64 hb) (wf64 hc) (wf64 hd) w trivial).mono (fun e w' h => ⟨h.1, below_g h.2⟩)
end Go.Proofs.Ytmaegmbpfilmhaa.C16
