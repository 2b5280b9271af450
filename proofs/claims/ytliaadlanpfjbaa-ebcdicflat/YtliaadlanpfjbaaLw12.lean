/- The laws of layer 12 over the program's contracts. -/
import Derived.Test.YtliaadlanpfjbaaPrc12
import Derived.Test.YtliaadlanpfjbaaWFl12
import Derived.Test.YtliaadlanpfjbaaWBk12
import Derived.Below
namespace Go.Proofs.Ytliaadlanpfjbaa.C12
open Go.RowKit Go.Proofs.Ytliaadlanpfjbaa.Mem
set_option linter.unusedVariables false

theorem below_g {w w' : World} (h : w.grownBy w' none) : Below w.heap.size w w' := ⟨h.os, h.tape, h.output, h.size, fun k hk => h.block k hk (by simp)⟩
theorem wf64 {n : Int} (h : (Lit.int .i64 n).wf = true) : I64 n := by
  rw [Lit.wf_int_iff] at h
  exact h
theorem wf32 {n : Int} (h : (Lit.int .i32 n).wf = true) : I32 n := by
  rw [Lit.wf_int_iff] at h
  exact h
theorem wf8 {n : Int} (h : (Lit.int .u8 n).wf = true) : ∃ b : Nat, n = (b : Int) ∧ b < 256 := by
  rw [Lit.wf_int_iff] at h
  have h1 : 0 ≤ n ∧ n ≤ 255 := h
  exact ⟨n.toNat, by omega, by omega⟩
theorem tells_law (a b c : Int) (ha : (Lit.int .i64 a).wf = true) (hb : (Lit.int .u8 b).wf = true) (hc : (Lit.int .i32 c).wf = true) (w : World) : Calls Try.prog 3 #[.int .i64 a, .int .u8 b, .int .i32 c] w fun e w' => e = .returned (.bool true) ∧ Below w.heap.size w w' := by
  obtain ⟨n, rfl, hn⟩ := wf8 hb
  exact (tells_walk con a (wf64 ha) n hn c (wf32 hc) w trivial).mono (fun e w' h => ⟨h.1, below_g h.2⟩)
theorem flat_law (a : Int) (ha : (Lit.int .i64 a).wf = true) (w : World) : Calls Try.prog 4 #[.int .i64 a] w fun e w' => e = .returned (.bool true) ∧ Below w.heap.size w w' :=
  (flat_walk con a (wf64 ha) w trivial).mono (fun e w' h => ⟨h.1, below_g h.2⟩)
theorem back_law (a c : Int) (ha : (Lit.int .i64 a).wf = true) (hc : (Lit.int .i32 c).wf = true) (w : World) : Calls Try.prog 5 #[.int .i64 a, .int .i32 c] w fun e w' => e = .returned (.bool true) ∧ Below w.heap.size w w' :=
  (back_walk con a c (wf32 hc) w trivial).mono (fun e w' h => ⟨h.1, below_g h.2⟩)
end Go.Proofs.Ytliaadlanpfjbaa.C12
