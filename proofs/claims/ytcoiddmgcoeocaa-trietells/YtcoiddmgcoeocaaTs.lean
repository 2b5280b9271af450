/- The pairs by their scalars, each with its least code: plain mathematics. -/
import Derived.Test.YtcoiddmgcoeocaaSt2
import Derived.Test.YtcoiddmgcoeocaaTq
namespace Go.Proofs.Ytcoiddmgcoeocaa.Tr
open Go.Proofs.Ytcoiddmgcoeocaa.El
set_option linter.unusedVariables false

def Sle (L : List Pr) : Prop := L.Pairwise (fun a b => a.2 ≤ b.2)
theorem merge_perm : ∀ (n : Nat) (A B : List Pr), A.length + B.length ≤ n → (merge A B).Perm (A ++ B) := by
  intro n
  induction n with
  | zero =>
    intro A B h
    have h1 : A = [] := List.length_eq_zero_iff.1 (by omega)
    subst h1
    rw [merge_nil_left, List.nil_append]
  | succ n ih =>
    intro A B h
    cases A with
    | nil => rw [merge_nil_left, List.nil_append]
    | cons a A =>
      cases B with
      | nil => rw [merge_nil_right, List.append_nil]
      | cons b B =>
        simp only [List.length_cons] at h
        by_cases hab : a.2 ≤ b.2
        · rw [merge_le hab]
          exact (ih A (b :: B) (by simp; omega)).cons a
        · rw [merge_gt hab]
          refine ((ih (a :: A) B (by simp; omega)).cons b).trans ?_
          exact List.perm_middle.symm
theorem msort_perm : ∀ (n : Nat) (L : List Pr), L.length ≤ n → (msort L).Perm L := by
  intro n
  induction n with
  | zero => intro L h; rw [msort_small (by omega)]
  | succ n ih =>
    intro L h
    by_cases hs : L.length < 2
    · rw [msort_small hs]
    · rw [msort_big hs]
      refine (merge_perm _ _ _ (Nat.le_refl _)).trans ?_
      have := (ih (L.take (L.length / 2)) (by rw [List.length_take]; omega)).append (ih (L.drop (L.length / 2)) (by rw [List.length_drop]; omega))
      rwa [List.take_append_drop] at this
theorem merge_sle : ∀ (n : Nat) (A B : List Pr), A.length + B.length ≤ n → Sle A → Sle B → Sle (merge A B) := by
  intro n
  induction n with
  | zero =>
    intro A B h hA hB
    have h1 : A = [] := List.length_eq_zero_iff.1 (by omega)
    subst h1
    rw [merge_nil_left]; exact hB
  | succ n ih =>
    intro A B h hA hB
    cases A with
    | nil => rw [merge_nil_left]; exact hB
    | cons a A =>
      cases B with
      | nil => rw [merge_nil_right]; exact hA
      | cons b B =>
        have pa := List.pairwise_cons.1 hA
        have pb := List.pairwise_cons.1 hB
        simp only [List.length_cons] at h
        by_cases hab : a.2 ≤ b.2
        · rw [merge_le hab]
          refine List.pairwise_cons.2 ⟨?_, ih A (b :: B) (by simp; omega) pa.2 hB⟩
          intro x hx
          rcases (mem_merge _ _ _ (Nat.le_refl _) x).1 hx with h1 | h1
          · exact pa.1 x h1
          · rcases List.mem_cons.1 h1 with rfl | h1
            · exact hab
            · have := pb.1 x h1; omega
        · rw [merge_gt hab]
          refine List.pairwise_cons.2 ⟨?_, ih (a :: A) B (by simp; omega) hA pb.2⟩
          intro x hx
          rcases (mem_merge _ _ _ (Nat.le_refl _) x).1 hx with h1 | h1
          · rcases List.mem_cons.1 h1 with rfl | h1
            · omega
            · have := pa.1 x h1; omega
          · exact pb.1 x h1
theorem msort_sle : ∀ (n : Nat) (L : List Pr), L.length ≤ n → Sle (msort L) := by
  intro n
  induction n with
  | zero =>
    intro L h
    have h1 : L = [] := List.length_eq_zero_iff.1 (by omega)
    subst h1
    rw [msort_small (by simp)]
    exact List.Pairwise.nil
  | succ n ih =>
    intro L h
    by_cases hs : L.length < 2
    · rw [msort_small hs]
      match L, hs with
      | [], _ => exact List.Pairwise.nil
      | [a], _ => exact List.pairwise_singleton _ _
    · rw [msort_big hs]
      exact merge_sle _ _ _ (Nat.le_refl _) (ih _ (by rw [List.length_take]; omega)) (ih _ (by rw [List.length_drop]; omega))
theorem firsts_nodup (P : List Pr) : ((firsts P).map (·.2)).Nodup := by
  have gen : ∀ (P a : List Pr), (a.map (·.2)).Nodup → ((P.foldl addF a).map (·.2)).Nodup := by
    intro P
    induction P with
    | nil => intro a h; exact h
    | cons p P ih =>
      intro a h
      rw [List.foldl_cons]
      apply ih
      unfold addF
      split
      · exact h
      · rename_i hp
        rw [List.map_append, List.nodup_append]
        refine ⟨h, by simp, ?_⟩
        intro x hx y hy e
        simp at hy
        subst hy
        subst e
        exact hp hx
  exact gen P [] (by simp)
theorem firsts_find (P : List Pr) (u : Int) : (firsts P).find? (fun p => p.2 == u) = P.find? (fun p => p.2 == u) := by
  have gen : ∀ (P a : List Pr), (P.foldl addF a).find? (fun p => p.2 == u) = (a.find? (fun p => p.2 == u)).or (P.find? (fun p => p.2 == u)) := by
    intro P
    induction P with
    | nil => intro a; simp
    | cons p P ih =>
      intro a
      rw [List.foldl_cons, ih, List.find?_cons]
      unfold addF
      by_cases hp : p.2 ∈ a.map (·.2)
      · rw [if_pos hp]
        by_cases hu : p.2 = u
        · have hs : (a.find? (fun p => p.2 == u)).isSome = true := by
            obtain ⟨q, hq, e⟩ := List.mem_map.1 hp
            rw [List.find?_isSome]
            exact ⟨q, hq, by simp [e, hu]⟩
          obtain ⟨x, hx⟩ := Option.isSome_iff_exists.1 hs
          rw [hx]
          rfl
        · have : (p.2 == u) = false := by simpa using hu
          rw [this]
      · rw [if_neg hp, List.find?_append, Option.or_assoc]
        congr 1
        by_cases hu : p.2 = u
        · have : (p.2 == u) = true := by simpa using hu
          simp [this]
        · have : (p.2 == u) = false := by simpa using hu
          simp [this]
  have := gen P []
  simpa [firsts] using this
/-- The scalars and their least codes, in the order of the scalars. -/
def byScalar (P : List Pr) : List (Int × Int) := (msort (firsts P)).map (fun p => (p.2, p.1))
theorem byScalar_asc (P : List Pr) : Asc (byScalar P) := by
  unfold Asc byScalar
  rw [List.pairwise_map]
  have h1 := msort_sle _ (firsts P) (Nat.le_refl _)
  have h2 : ((msort (firsts P)).map (·.2)).Nodup := ((msort_perm _ (firsts P) (Nat.le_refl _)).map (·.2)).nodup_iff.2 (firsts_nodup P)
  have h3 : (msort (firsts P)).Pairwise (fun a b => a.2 ≠ b.2) := List.pairwise_map.1 h2
  exact (List.Pairwise.and h1 h3).imp (fun {a b} h => by obtain ⟨x, y⟩ := h; simp only; omega)
theorem look_mem {Q : List (Int × Int)} (h : Asc Q) (n v : Int) : look Q n = some v ↔ (n, v) ∈ Q := by
  induction Q with
  | nil => simp [look]
  | cons q Q ih =>
    have hp := List.pairwise_cons.1 h
    by_cases e : q.1 = n
    · rw [look_cons_eq e, List.mem_cons]
      constructor
      · intro hv
        left
        exact Prod.ext e.symm (by simpa using hv.symm)
      · rintro (hv | hv)
        · rw [← hv]
        · have := hp.1 _ hv
          simp only at this
          omega
    · rw [look_cons_ne e, ih hp.2, List.mem_cons]
      constructor
      · exact .inr
      · rintro (hv | hv)
        · exact absurd (by rw [← hv]) e
        · exact hv
/-- The least code of a scalar, where codes rise. -/
theorem byScalar_look (P : List Pr) (u : Int) : look (byScalar P) u = (P.find? (fun p => p.2 == u)).map (·.1) := by
  have hf := firsts_find P u
  cases hx : P.find? (fun p => p.2 == u) with
  | none =>
    rw [hx] at hf
    cases hl : look (byScalar P) u with
    | none => rfl
    | some v =>
      have hm := (look_mem (byScalar_asc P) u v).1 hl
      obtain ⟨p, hp, e⟩ := List.mem_map.1 hm
      have hp' := (mem_msort _ _ (Nat.le_refl _) p).1 hp
      have := List.find?_eq_none.1 hf p hp'
      simp at e
      simp [e.1] at this
  | some p =>
    rw [hx] at hf
    have hp := List.mem_of_find?_eq_some hf
    have hu : p.2 = u := by simpa using List.find?_some hf
    simp only [Option.map_some]
    refine (look_mem (byScalar_asc P) u p.1).2 ?_
    exact List.mem_map.2 ⟨p, (mem_msort _ _ (Nat.le_refl _) p).2 hp, by rw [hu]⟩
end Go.Proofs.Ytcoiddmgcoeocaa.Tr
