/- The program's Check: a walk. -/
import Derived.Test.YtcoiddmgcoeocaaSmall
namespace Go.Proofs.Ytcoiddmgcoeocaa.Rn
open Go.ChangeShapes Go.WideShapes Go.ChangeAt Go.RowKit Go.Proofs.Ytcoiddmgcoeocaa.Mem Go.Proofs.Ytcoiddmgcoeocaa.Ucs Go.Proofs.Ytcoiddmgcoeocaa.El
set_option linter.unusedVariables false
set_option linter.unusedSimpArgs false

/-- The cells of a range of a table. -/
theorem rcells {w : World} {ao : Option Addr} {L : List Rg} (h : RE.Rd w ao L) {i : Nat} (hi : i < L.length) {f t a : Int} (he : L[i] = (f, t, a)) :
    ∃ b o, ao = some ⟨b, o, none⟩ ∧ b < w.heap.size ∧ w.cell? ⟨b, o + i * 3, none⟩ = some (.int .i64 f) ∧ w.cell? ⟨b, o + i * 3 + 1, none⟩ = some (.int .i64 t) ∧ w.cell? ⟨b, o + i * 3 + 2, none⟩ = some (.int .i32 a) := by
  obtain ⟨b, o, rfl, hb, hc⟩ := h.at (List.ne_nil_of_length_pos (by omega)) (by decide)
  have e : RE.enc L[i] = [.int .i64 f, .int .i64 t, .int .i32 a] := by rw [he]; rfl
  refine ⟨b, o, rfl, hb, ?_, ?_, ?_⟩
  · exact hc i hi 0 _ (by rw [e]; rfl)
  · exact hc i hi 1 _ (by rw [e]; rfl)
  · exact hc i hi 2 _ (by rw [e]; rfl)
theorem drop_at {α : Type} {L : List α} {i : Nat} (hi : i < L.length) {x : α} (he : L[i] = x) : L.drop i = x :: L.drop (i + 1) := by
  rw [← he]; exact List.drop_eq_getElem_cons hi

end Go.Proofs.Ytcoiddmgcoeocaa.Rn
