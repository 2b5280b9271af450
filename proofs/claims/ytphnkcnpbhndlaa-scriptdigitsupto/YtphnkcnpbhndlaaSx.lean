/- Texts: a byte of one; rows of bytes that a walk has just made (for seats without Got and Put). -/
import Derived.Test.YtphnkcnpbhndlaaRows
import Derived.WalkKit
import Derived.ProofKit
import Derived.Test.YtphnkcnpbhndlaaMem
namespace Go.Proofs.Ytphnkcnpbhndlaa.Sx
open Go.ChangeShapes Go.WideShapes Go.ChangeAt Go.RowKit Go.Proofs.Ytphnkcnpbhndlaa.Mem
set_option linter.unusedVariables false
set_option linter.unusedSimpArgs false

theorem str_at {L : List UInt8} {i : Nat} {c : UInt8} (h : L[i]? = some c) : (str L)[i]? = some c := by
  have hi : i < L.length := (List.getElem?_eq_some_iff.1 h).1
  have hs : i < (str L).size := by rw [str_size]; exact hi
  rw [getElem?_pos (str L) i hs]
  have e := (List.getElem?_eq_some_iff.1 h).2
  rw [← e]
  rfl
theorem index_of {L : List UInt8} {i : Nat} {c : UInt8} (h : L[i]? = some c) (w : World) : (Instr.index 9 (.string (str L)) (.int .i64 (i : Int))).run Try.prog w = .ok (.int .u8 (c.toNat : Int)) w := by
  have h2 := str_at h
  simp [Instr.index, run_underlying Try.underlying9, asIntOf, h2]
theorem own_byte (w : World) (c : UInt8) : Own (w.alloc (.cells #[.int .u8 (c.toNat : Int)] 5)) (some ⟨w.heap.size, 0, none⟩) 1 [c] :=
  .inr ⟨w.heap.size, _, rfl, heap_alloc_new w _, by simp, by simp [maxLen], rfl, by simp [bcells]⟩
theorem info5 : (Try.prog.info? 5).map (fun i => (i.zero, i.size, i.bytes)) = some (some (.int .u8 0), 1, 1) := by kernel_rfl
theorem info_parts {o : Option TypeInfo} {z : Option Value} {a b : Nat} (h : o.map (fun i => (i.zero, i.size, i.bytes)) = some (z, a, b)) : ∃ i, o = some i ∧ i.zero = z ∧ i.size = a ∧ i.bytes = b := by
  cases o with
  | none => simp at h
  | some i => simp at h; exact ⟨i, rfl, h⟩
end Go.Proofs.Ytphnkcnpbhndlaa.Sx
