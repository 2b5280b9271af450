/- Utf8Passes: the walk. -/
import Derived.Test.YtjhdepbiakekaaaWorks
import Derived.Test.YtjhdepbiakekaaaArgs
namespace Go.Proofs.Ytjhdepbiakekaaa.U8
open Go.ChangeShapes Go.WideShapes Go.ChangeAt Go.RowKit Go.Proofs.Ytjhdepbiakekaaa.Mem Go.Proofs.Ytjhdepbiakekaaa.Ucs
set_option linter.unusedVariables false

theorem pass_math {L : List UInt8} {x a : Nat} (hx : scB (x : Int) = true) (ha : a < L.length) :
    get ((L ++ unit x).drop a) ≠ .more ∧ 1 ≤ (get ((L ++ unit x).drop a)).n ∧ a + (get ((L ++ unit x).drop a)).n ≤ L.length := by
  have hl := (ix_lead (sc_le hx)).2.2
  have e : (L ++ unit x).drop a = L.drop a ++ (lead x :: tls (uk x) x) := by rw [List.drop_append_of_le_length (by omega), unit_eq]
  have hm : 1 ≤ (L.drop a).length := by simp; omega
  have hml : (L.drop a).length = L.length - a := by simp
  rw [e]
  generalize L.drop a = M at *
  have h1 : get (M ++ lead x :: tls (uk x) x) ≠ .more := by
    intro h
    refine hl ((get_more h).2 _ ?_)
    obtain ⟨c, r, rfl⟩ := List.exists_cons_of_ne_nil (List.ne_nil_of_length_pos hm)
    simp
  obtain ⟨h2, h3, h4⟩ := get_n h1
  refine ⟨h1, h2, ?_⟩
  by_cases hle : (get (M ++ lead x :: tls (uk x) x)).n ≤ M.length
  · omega
  · exfalso
    refine hl (h4 _ ?_)
    generalize (get (M ++ lead x :: tls (uk x) x)).n = n at *
    obtain ⟨c, r, rfl⟩ := List.exists_cons_of_ne_nil (List.ne_nil_of_length_pos hm)
    obtain ⟨k, rfl⟩ : ∃ k, n = k + 1 := ⟨n - 1, by omega⟩
    rw [List.cons_append, List.take_succ_cons, List.drop_succ_cons, List.drop_zero, List.take_append]
    refine List.mem_append.2 (.inr ?_)
    rw [show k - r.length = (k - r.length - 1) + 1 by simp at hle; omega, List.take_succ_cons]
    simp
theorem err_ne {R : Res} (h : R ≠ .more) : R.err ≠ 1 := by
  rcases R with _ | n | ⟨n, u⟩ <;> simp [Res.err] at *
theorem info5' : (Try.prog.info? 5).map (fun i => (i.zero, i.size, i.bytes)) = some (some (.int .u8 0), 1, 1) := by kernel_rfl

end Go.Proofs.Ytjhdepbiakekaaa.U8
