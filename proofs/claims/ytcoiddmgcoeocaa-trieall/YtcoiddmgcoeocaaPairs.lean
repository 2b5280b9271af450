/- The program's Pairs: a walk. -/
import Derived.Test.YtcoiddmgcoeocaaCheck
import Derived.Test.YtcoiddmgcoeocaaApp
namespace Go.Proofs.Ytcoiddmgcoeocaa.Rn
open Go.ChangeShapes Go.WideShapes Go.ChangeAt Go.RowKit Go.Proofs.Ytcoiddmgcoeocaa.Mem Go.Proofs.Ytcoiddmgcoeocaa.Ucs Go.Proofs.Ytcoiddmgcoeocaa.El
set_option linter.unusedVariables false
set_option linter.unusedSimpArgs false

theorem own_apart {α : Type} {E : Elem α} {w : World} {ao : Option Addr} {cap : Nat} {L : List α} (h : E.Own w ao cap L) {b : Nat} {cs : Array Value} {t : TypeId} {fr : Nat × Nat} (hb : w.heap[b]? = some (.cells cs t fr)) (ht : t ≠ E.ty) : blk ao ≠ some b := by
  rcases h with ⟨rfl, _⟩ | ⟨g, cur, rfl, hh, _⟩
  · simp [blk]
  · intro e
    simp [blk] at e
    subst e
    rw [hh] at hb
    simp at hb
    exact ht hb.2.1.symm
/-- What is newer stays newer behind an append. -/
theorem newer {w0 w1 : World} {ro ro' : Option Addr} (h : ∀ g, blk ro = some g → w0.heap.size ≤ g) (hs : w0.heap.size ≤ w1.heap.size) (hat : ro' = ro ∨ ro' = some ⟨w1.heap.size, 0, none⟩) : ∀ g, blk ro' = some g → w0.heap.size ≤ g := by
  intro g e
  rcases hat with rfl | rfl
  · exact h g e
  · have := Option.some.inj e; simp at this; omega
theorem run_more {P Q R : List Pr} {c u : Int} {n : Nat} (h : P ++ (run c u (n + 1) ++ R) = Q) : (P ++ [(c, u)]) ++ (run (c + 1) (u + 1) n ++ R) = Q := by
  rw [← h]; simp [run]

end Go.Proofs.Ytcoiddmgcoeocaa.Rn
