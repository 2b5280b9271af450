/- The laws of layer 22 over the program's contracts (text TQ22: con). -/
import Derived.Test.YtjhdepbiakekaaaTX22
import Derived.Test.YtjhdepbiakekaaaTQ22
import Derived.Below
namespace Go.Proofs.Ytjhdepbiakekaaa.C22
open Go.ChangeShapes Go.WideShapes Go.ChangeAt Go.RowKit Go.Proofs.Ytjhdepbiakekaaa.Mem Go.Proofs.Ytjhdepbiakekaaa.El Go.Proofs.Ytjhdepbiakekaaa.St Go.Proofs.Ytjhdepbiakekaaa.Ru Go.Proofs.Ytjhdepbiakekaaa.Cb Go.Proofs.Ytjhdepbiakekaaa.Sp
set_option linter.unusedVariables false
set_option linter.unusedSimpArgs false

theorem below_g {w w' : World} (h : w.grownBy w' none) : Below w.heap.size w w' := ⟨h.os, h.tape, h.output, h.size, fun k hk => h.block k hk (by simp)⟩
theorem wf32 {n : Int} (h : (Lit.int .i32 n).wf = true) : I32 n := by
  rw [Lit.wf_int_iff] at h
  exact h
theorem tells_law (a : Int) (ha : (Lit.int .i32 a).wf = true) (w : World) : Calls Try.prog 3 #[.int .i32 a] w fun e w' => e = .returned (.bool true) ∧ Below w.heap.size w w' :=
  (tells_walk con a (wf32 ha) w trivial).mono (fun e w' h => ⟨h.1, below_g h.2⟩)
theorem all_law (a : Int) (ha : (Lit.int .i32 a).wf = true) (w : World) : Calls Try.prog 5 #[.int .i32 a] w fun e w' => e = .returned (.bool true) ∧ Below w.heap.size w w' :=
  (all_walk con a (wf32 ha) w trivial).mono (fun e w' h => ⟨h.1, below_g h.2⟩)
theorem short_law (a : Int) (ha : (Lit.int .i32 a).wf = true) (w : World) : Calls Try.prog 6 #[.int .i32 a] w fun e w' => e = .returned (.bool true) ∧ Below w.heap.size w w' :=
  (short_walk con a (wf32 ha) w trivial).mono (fun e w' h => ⟨h.1, below_g h.2⟩)
theorem wide_law (a : Int) (ha : (Lit.int .i32 a).wf = true) (w : World) : Calls Try.prog 7 #[.int .i32 a] w fun e w' => e = .returned (.bool true) ∧ Below w.heap.size w w' :=
  (wide_walk con a (wf32 ha) w trivial).mono (fun e w' h => ⟨h.1, below_g h.2⟩)
theorem first_law (a : Int) (s : ByteArray) (w : World) (ha : (Lit.int .i32 a).wf = true) (hs : s.data.toList.length ≤ 140737488351232) : Calls Try.prog 4 #[.int .i32 a, .string s] w fun e w' => e = .returned (.bool true) ∧ Below w.heap.size w w' := by
  have h := first_walk con a (wf32 ha) s.data.toList w trivial
  rw [str_of] at h
  exact h.mono (fun e w' h => ⟨h.1, below_g h.2⟩)
end Go.Proofs.Ytjhdepbiakekaaa.C22
