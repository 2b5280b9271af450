/- The laws of layer 18 over the program's contracts (text FQ18: con). -/
import Derived.Test.YtkkdaoimnmghgaaEB18
import Derived.Test.YtkkdaoimnmghgaaFA18
import Derived.Test.YtkkdaoimnmghgaaFL18
import Derived.Test.YtkkdaoimnmghgaaFQ18
import Derived.Below
namespace Go.Proofs.Ytkkdaoimnmghgaa.C18
open Go.RowKit Go.Proofs.Ytkkdaoimnmghgaa.Mem
set_option linter.unusedVariables false

theorem below_g {w w' : World} (h : w.grownBy w' none) : Below w.heap.size w w' := ⟨h.os, h.tape, h.output, h.size, fun k hk => h.block k hk (by simp)⟩
theorem wf64 {n : Int} (h : (Lit.int .i64 n).wf = true) : I64 n := by
  rw [Lit.wf_int_iff] at h
  exact h
theorem wf32 {n : Int} (h : (Lit.int .i32 n).wf = true) : I32 n := by
  rw [Lit.wf_int_iff] at h
  exact h
theorem wf8 {n : Int} (h : (Lit.int .u8 n).wf = true) : ∃ b : Nat, n = (b : Int) ∧ b < 256 := by
  rw [Lit.wf_int_iff] at h
  have h1 : 0 ≤ n ∧ n ≤ 255 := h
  exact ⟨n.toNat, by omega, by omega⟩
theorem gets_law (ao : Option Addr) (cap : Nat) (L : List UInt8) (w : World) (hB : Bytes w ao L) (hLc : L.length ≤ cap) (hcm : cap ≤ 140737488351232) : Calls Try.prog 3 #[.slice ao L.length cap] w fun e w' => e = .returned (.bool true) ∧ Below w.heap.size w w' :=
  (gets_walk con ao cap L w trivial hB hLc hcm).mono (fun e w' h => ⟨h.1, below_g h.2⟩)
theorem sets_law (b : Int) (hb : (Lit.int .i32 b).wf = true) (w : World) : Calls Try.prog 4 #[.int .i32 b] w fun e w' => e = .returned (.bool true) ∧ Below w.heap.size w w' :=
  (sets_walk con b (wf32 hb) w trivial).mono (fun e w' h => ⟨h.1, below_g h.2⟩)
theorem packs_law (a b c d : Int) (ha : (Lit.int .i64 a).wf = true) (hb : (Lit.int .i64 b).wf = true) (hc : (Lit.int .u8 c).wf = true) (hd : (Lit.int .u8 d).wf = true) (w : World) : Calls Try.prog 5 #[.int .i64 a, .int .i64 b, .int .u8 c, .int .u8 d] w fun e w' => e = .returned (.bool true) ∧ Below w.heap.size w w' := by
  obtain ⟨m, rfl, hm⟩ := wf8 hc
  obtain ⟨n, rfl, hn⟩ := wf8 hd
  exact (packs_walk con a b (wf64 ha) (wf64 hb) m n hm hn w trivial).mono (fun e w' h => ⟨h.1, below_g h.2⟩)
theorem all_law (a c : Int) (ha : (Lit.int .i64 a).wf = true) (hc : (Lit.int .u8 c).wf = true) (w : World) : Calls Try.prog 6 #[.int .i64 a, .int .u8 c] w fun e w' => e = .returned (.bool true) ∧ Below w.heap.size w w' := by
  obtain ⟨m, rfl, hm⟩ := wf8 hc
  exact (all_walk con a m hm w trivial).mono (fun e w' h => ⟨h.1, below_g h.2⟩)
theorem back_law (b : Int) (ao : Option Addr) (cap : Nat) (L : List UInt8) (w : World) (hb : (Lit.int .i32 b).wf = true) (hB : Bytes w ao L) (hLc : L.length ≤ cap) (hcm : cap ≤ 140737488351232) : Calls Try.prog 7 #[.int .i32 b, .slice ao L.length cap] w fun e w' => e = .returned (.bool true) ∧ Below w.heap.size w w' :=
  (back_walk con b (wf32 hb) ao cap L w trivial hB hLc hcm).mono (fun e w' h => ⟨h.1, below_g h.2⟩)
theorem plain_law (c : Int) (ao : Option Addr) (cap : Nat) (L : List UInt8) (w : World) (hc : (Lit.int .u8 c).wf = true) (hB : Bytes w ao L) (hLc : L.length ≤ cap) (hcm : cap ≤ 140737488351232) : Calls Try.prog 8 #[.int .u8 c, .slice ao L.length cap] w fun e w' => e = .returned (.bool true) ∧ Below w.heap.size w w' := by
  obtain ⟨m, rfl, hm⟩ := wf8 hc
  exact (plain_walk con m hm ao cap L w trivial hB hLc hcm).mono (fun e w' h => ⟨h.1, below_g h.2⟩)
end Go.Proofs.Ytkkdaoimnmghgaa.C18
