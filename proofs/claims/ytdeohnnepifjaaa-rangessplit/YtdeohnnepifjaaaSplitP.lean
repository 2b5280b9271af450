/- A table whose ranges are cut: plain facts. -/
import Derived.Test.YtdeohnnepifjaaaRp
namespace Go.Proofs.Ytdeohnnepifjaaa.Rn
open Go.Proofs.Ytdeohnnepifjaaa.El Go.Proofs.Ytdeohnnepifjaaa.Ucs

theorem total_append (L M : List Rg) : total (L ++ M) = total L + total M := by
  induction L with
  | nil => simp [total]
  | cons r L ih => simp only [List.cons_append, total, ih]; omega
theorem okFrom_cut (A : List Rg) (b f t a x : Int) (R : List Rg) (hx : f ≤ x) (hxt : x < t) (h : okFrom b (A ++ (f, t, a) :: R) = true) : okFrom b (A ++ (f, x, a) :: (x + 1, t, a + (x + 1 - f)) :: R) = true := by
  induction A generalizing b with
  | nil =>
    obtain ⟨h1, h2, h3⟩ := okFrom_cons.1 h
    have h4 := rightR_iff.1 h1
    exact okFrom_cons.2 ⟨rightR_iff.2 (by omega), h2, okFrom_cons.2 ⟨rightR_iff.2 (by omega), by omega, h3⟩⟩
  | cons r A ih =>
    obtain ⟨f', t', a'⟩ := r
    obtain ⟨h1, h2, h3⟩ := okFrom_cons.1 h
    exact okFrom_cons.2 ⟨h1, h2, ih t' h3⟩
theorem pairs_cut (f t a x : Int) (hx : f ≤ x) (hxt : x < t) (R : List Rg) : pairsOf ((f, x, a) :: (x + 1, t, a + (x + 1 - f)) :: R) = pairsOf ((f, t, a) :: R) := by
  simp only [pairsOf]
  rw [← List.append_assoc]
  congr 1
  obtain ⟨m, rfl⟩ : ∃ m : Nat, x = f + m := ⟨(x - f).toNat, by omega⟩
  obtain ⟨n, rfl⟩ : ∃ n : Nat, t = f + m + n := ⟨(t - (f + m)).toNat, by omega⟩
  have e1 : cnt (f, f + (m : Int), a) = m + 1 := by simp only [cnt]; omega
  have e2 : cnt (f + (m : Int) + 1, f + (m : Int) + (n : Int), a + (f + (m : Int) + 1 - f)) = n := by simp only [cnt]; omega
  have e3 : cnt (f, f + (m : Int) + (n : Int), a) = (m + 1) + n := by simp only [cnt]; omega
  rw [e1, e2, e3, run_add f a (m + 1) n]
  congr 2 <;> omega
/-- What has been built, with what is to come, is the table's. -/
def CutInv (L : List Rg) (i : Nat) (T : List Rg) : Prop := okFrom (-1) (T ++ L.drop i) = true ∧ pairsOf (T ++ L.drop i) = pairsOf L ∧ total (T ++ L.drop i) = total L
theorem CutInv.start {L : List Rg} (h : okFrom (-1) L = true) : CutInv L 0 [] := ⟨h, rfl, rfl⟩
theorem CutInv.on {L T : List Rg} {i : Nat} {f t a : Int} (h : CutInv L i T) (hd : L.drop i = (f, t, a) :: L.drop (i + 1)) : CutInv L (i + 1) (T ++ [(f, t, a)]) := by
  obtain ⟨h1, h2, h3⟩ := h
  rw [hd] at h1 h2 h3
  exact ⟨by simpa using h1, by simpa using h2, by simpa using h3⟩
theorem CutInv.cut {L T : List Rg} {i : Nat} {f t a : Int} (h : CutInv L i T) (hd : L.drop i = (f, t, a) :: L.drop (i + 1)) (x : Int) (hx : f ≤ x) (hxt : x < t) : CutInv L (i + 1) (T ++ [(f, x, a)] ++ [(x + 1, t, a + (x + 1 - f))]) := by
  obtain ⟨h1, h2, h3⟩ := h
  rw [hd] at h1 h2 h3
  have e : T ++ [(f, x, a)] ++ [(x + 1, t, a + (x + 1 - f))] ++ L.drop (i + 1) = T ++ ((f, x, a) :: (x + 1, t, a + (x + 1 - f)) :: L.drop (i + 1)) := by simp
  refine ⟨?_, ?_, ?_⟩
  · rw [e]; exact okFrom_cut T (-1) f t a x _ hx hxt h1
  · rw [e, pairsOf_append, pairs_cut f t a x hx hxt, ← pairsOf_append]; exact h2
  · rw [e, total_append]; rw [total_append] at h3; simp only [total] at h3 ⊢; omega
theorem CutInv.end {L T : List Rg} (h : CutInv L L.length T) : okFrom (-1) T = true ∧ pairsOf T = pairsOf L ∧ total T = total L := by
  obtain ⟨h1, h2, h3⟩ := h
  rw [List.drop_length, List.append_nil] at h1 h2 h3
  exact ⟨h1, h2, h3⟩
end Go.Proofs.Ytdeohnnepifjaaa.Rn
