/- The program's list of layer 23 in memory. -/
import Derived.Test.YtljkncgbabiojaaDoorPG23
import Derived.Test.YtljkncgbabiojaaDoorCb
import Derived.Laws.Tables
import Derived.Great.BuildSlice
import Derived.Deep.Cut
namespace Go.Proofs.YtljkncgbabiojaaDoor.C23
open Go.ChangeShapes Go.WideShapes Go.ChangeAt Go.RowKit Go.Proofs.YtljkncgbabiojaaDoor.Mem Go.Proofs.YtljkncgbabiojaaDoor.El Go.Proofs.YtljkncgbabiojaaDoor.St Go.Proofs.YtljkncgbabiojaaDoor.Cb
set_option linter.unusedVariables false
set_option linter.unusedSimpArgs false

/-- An entry's cells: the kind, and its names. -/
abbrev eC (K : Int) (A n : Nat) : Array Value := #[.int .i64 K, .slice (some ⟨A, 0, none⟩) n n]
abbrev eZ : Array Value := #[.int .i64 0, .slice none 0 0]
def nmB : List (Array Value × TypeId) := alT.map (fun p => ((p.2.map (fun s => Value.string (str s))).toArray, 9))
def enL (N : Nat) : Nat → List (Nat × List (List UInt8)) → List Value
  | _, [] => []
  | i, p :: r => .int .i64 (p.1 : Int) :: .slice (some ⟨N + i, 0, none⟩) p.2.length p.2.length :: enL N (i + 1) r
def blks (N : Nat) : List (Array Value × TypeId) := nmB ++ [((enL N 0 alT).toArray, 55)]
theorem enL_at (N : Nat) : ∀ (L : List (Nat × List (List UInt8))) (k i : Nat) (h : i < L.length), (enL N k L)[i * 2]? = some (.int .i64 ((L[i].1 : Nat) : Int)) ∧ (enL N k L)[i * 2 + 1]? = some (.slice (some ⟨N + (k + i), 0, none⟩) L[i].2.length L[i].2.length)
  | p :: r, k, 0, h => ⟨rfl, rfl⟩
  | p :: r, k, i + 1, h => by
    have ih := enL_at N r (k + 1) i (by simpa using h)
    have e1 : (i + 1) * 2 = i * 2 + 1 + 1 := by omega
    have e2 : k + (i + 1) = k + 1 + i := by omega
    rw [e1, e2]
    exact ih
theorem allocs_size : ∀ (bs : List (Array Value × TypeId)) (w : World), (allocs w bs).heap.size = w.heap.size + bs.length
  | [], w => rfl
  | b :: r, w => by
    show (allocs (w.alloc (.cells b.1 b.2)) r).heap.size = _
    rw [allocs_size r, hsz_alloc, List.length_cons]
    omega
theorem allocs_grown : ∀ (bs : List (Array Value × TypeId)) (w : World), w.grownBy (allocs w bs) none
  | [], w => grownBy_refl _ _
  | b :: r, w => gt (World.grownBy_alloc _ _ _) (allocs_grown r _)
theorem allocs_at : ∀ (bs : List (Array Value × TypeId)) (w : World) (i : Nat) (h : i < bs.length), CA (allocs w bs) (w.heap.size + i) bs[i].2 bs[i].1
  | b :: r, w, 0, h => CA.kept0 (w := w.alloc (.cells b.1 b.2)) (heap_alloc_new w _) (allocs_grown r _)
  | b :: r, w, i + 1, h => by
    have ih := allocs_at r (w.alloc (.cells b.1 b.2)) i (by simpa using h)
    rw [hsz_alloc] at ih
    have e : w.heap.size + (i + 1) = w.heap.size + 1 + i := by omega
    rw [e]
    exact ih
theorem alT_n : alT.length = 56 := by decide +kernel
theorem nmB_len : nmB.length = 56 := by decide +kernel
/-- The entries lie at G, their names at A 0, A 1 .. -/
def LS (G : Nat) (A : Nat → Nat) (w : World) : Prop := ∀ (i : Nat) (h : i < alT.length), G < w.heap.size ∧ w.cell? ⟨G, i * 2, none⟩ = some (.int .i64 ((alT[i].1 : Nat) : Int)) ∧ w.cell? ⟨G, i * 2 + 1, none⟩ = some (.slice (some ⟨A i, 0, none⟩) alT[i].2.length alT[i].2.length) ∧ StE.Own w (some ⟨A i, 0, none⟩) alT[i].2.length alT[i].2
theorem LS.kept {G : Nat} {A : Nat → Nat} {w w' : World} (h : LS G A w) (hg : w.grownBy w' none) : LS G A w' := fun i hi => by
  obtain ⟨h0, h1, h2, h3⟩ := h i hi
  exact ⟨Nat.lt_of_lt_of_le h0 hg.size, hg.cell h1 (by simp), hg.cell h2 (by simp), h3.kept0 hg⟩
theorem ls_made (w : World) : LS (w.heap.size + 56) (fun i => w.heap.size + i) (allocs w (blks w.heap.size)) := fun i hi => by
  have hb : (blks w.heap.size).length = 57 := by unfold blks; rw [List.length_append, nmB_len]; rfl
  have hc := allocs_at (blks w.heap.size) w 56 (by rw [hb]; omega)
  have e56 : (blks w.heap.size)[56]'(by rw [hb]; omega) = ((enL w.heap.size 0 alT).toArray, 55) := by
    unfold blks
    rw [List.getElem_append_right (by rw [nmB_len]; exact Nat.le_refl _)]
    simp [nmB_len]
  rw [e56] at hc
  obtain ⟨q1, q2⟩ := enL_at w.heap.size alT 0 i hi
  rw [Nat.zero_add] at q2
  refine ⟨hc.lt, hc.cell _ (by simpa using q1), hc.cell _ (by simpa using q2), ?_⟩
  have hi2 : i < nmB.length := by rw [nmB_len, ← alT_n]; exact hi
  have hn := allocs_at (blks w.heap.size) w i (by rw [hb]; rw [nmB_len] at hi2; omega)
  have en : (blks w.heap.size)[i]'(by rw [hb]; rw [nmB_len] at hi2; omega) = ((alT[i].2.map (fun s => Value.string (str s))).toArray, 9) := by
    unfold blks
    rw [List.getElem_append_left hi2]
    exact List.getElem_map ..
  rw [en] at hn
  have hl : alT[i].2.length ≤ 5 := (al_at _ (List.getElem_mem hi)).2.2.2.2.2
  refine .inr ⟨_, _, rfl, hn, Nat.le_refl _, by simp only [maxLen]; omega, by simp; exact (Nat.mul_one _).symm, ?_⟩
  have ec : ∀ L : List (List UInt8), StE.cells L = L.map (fun s => Value.string (str s)) := by
    intro L
    induction L with
    | nil => rfl
    | cons a L ih => rw [cells_cons, ih]; rfl
  rw [ec]
  exact List.take_of_length_le (by simp; exact Nat.le_of_eq (Nat.mul_one _).symm)
theorem infoE : (Tryd.prog.info? 55).map (·.size) = some 2 := by kernel_rfl
theorem zeroE (w : World) : (zeroValue 55).run Tryd.prog w = .ok (.agg eZ) w := by kernel_rfl
theorem eC_one (K : Int) (A n : Nat) : (eC K A n).all (·.oneCell') = true := by kernel_rfl
end Go.Proofs.YtljkncgbabiojaaDoor.C23
