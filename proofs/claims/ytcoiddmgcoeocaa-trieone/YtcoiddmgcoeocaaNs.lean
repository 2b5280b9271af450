/- A side of a table, in plain functions. -/
import Derived.Test.YtcoiddmgcoeocaaKeep
import Derived.Test.YtcoiddmgcoeocaaTq
namespace Go.Proofs.Ytcoiddmgcoeocaa.Tr
open Go.Proofs.Ytcoiddmgcoeocaa.Mem Go.Proofs.Ytcoiddmgcoeocaa.El
set_option linter.unusedVariables false

def filt (Q : List Pr) (k : Int) : List Pr := Q.filter (fun q => q.1 / 64 == k)
def conB (M : List Pr) : BL := ⟨conZ M, conZ_len M⟩
def blkB (Q : List Pr) (k : Int) : BL := conB (filt Q k)
/-- The different blocks, in the order in which they come. -/
def allB (Q : List Pr) : List BL := nub ((keys Q).map (blkB Q))
theorem fold_look (k : Int) : ∀ (M : List Pr) (zs : List Int), zs.length = 64 → (∀ q ∈ M, q.1 / 64 = k) → Asc M → ∀ j : Nat, j < 64 → (M.foldl conStep zs).getD j 0 = (look M (64 * k + (j : Int))).elim (zs.getD j 0) (· + 1)
  | [], zs, _, _, _, j, _ => by simp [look]
  | q :: M, zs, hl, hk, ha, j, hj => by
    have hp := List.pairwise_cons.1 ha
    have ih := fold_look k M (conStep zs q) (by simp [conStep, hl]) (fun x hx => hk x (by simp [hx])) hp.2 j hj
    rw [List.foldl_cons, ih]
    have hq : q.1 / 64 = k := hk q (by simp)
    by_cases hn : q.1 = 64 * k + (j : Int)
    · have hnone : look M (64 * k + (j : Int)) = none := look_none (fun x hx => by have := hp.1 x hx; omega)
      have hm : (q.1 % 64).toNat = j := by omega
      rw [hnone, look_cons_eq hn]
      simp only [Option.elim_none, Option.elim_some, conStep, hm]
      rw [List.getD_eq_getElem?_getD, List.getElem?_set_self (by omega)]
      rfl
    · rw [look_cons_ne hn]
      have hm : (q.1 % 64).toNat ≠ j := by omega
      have e : (conStep zs q).getD j 0 = zs.getD j 0 := by
        unfold conStep
        rw [List.getD_eq_getElem?_getD, List.getElem?_set_ne hm, List.getD_eq_getElem?_getD]
      rw [e]
theorem look_filt (Q : List Pr) (k : Int) (j : Nat) (hj : j < 64) : look (filt Q k) (64 * k + (j : Int)) = look Q (64 * k + (j : Int)) := by
  unfold look filt
  rw [List.find?_filter]
  congr 2
  funext q
  by_cases h : q.1 = 64 * k + (j : Int)
  · have : q.1 / 64 = k := by omega
    simp [h]
    omega
  · have : (q.1 == 64 * k + (j : Int)) = false := by simpa using h
    simp [this]
theorem con_look {Q : List Pr} (h : Asc Q) (k : Int) (j : Nat) (hj : j < 64) : (conZ (filt Q k)).getD j 0 = (look Q (64 * k + (j : Int))).elim 0 (· + 1) := by
  unfold conZ
  rw [fold_look k (filt Q k) (List.replicate 64 0) (by simp) (fun q hq => by have := (List.mem_filter.1 hq).2; simpa using this) (h.filter _) j hj, look_filt Q k j hj]
  have : (List.replicate 64 (0 : Int)).getD j 0 = 0 := by rw [List.getD_eq_getElem?_getD, List.getElem?_replicate, if_pos hj]; rfl
  rw [this]
theorem blkB_arr {Q : List Pr} (h : Asc Q) (hv : ∀ q ∈ Q, 0 ≤ q.2) (k k' : Int) : blkB Q k = blkB Q k' ↔ arr Q k = arr Q k' := by
  have hval : ∀ n v, look Q n = some v → 0 ≤ v := by
    intro n v hl
    unfold look at hl
    obtain ⟨q, hq, rfl⟩ := Option.map_eq_some_iff.1 hl
    exact hv q (List.mem_of_find?_eq_some hq)
  constructor
  · intro e
    have e1 : conZ (filt Q k) = conZ (filt Q k') := congrArg Subtype.val e
    unfold arr
    apply List.map_congr_left
    intro j hj
    have hj' : j < 64 := List.mem_range.1 hj
    have h1 := con_look h k j hj'
    have h2 := con_look h k' j hj'
    rw [e1, h2] at h1
    cases ha : look Q (64 * k + (j : Int)) with
    | none =>
      cases hb : look Q (64 * k' + (j : Int)) with
      | none => rfl
      | some v => have := hval _ _ hb; rw [ha, hb] at h1; simp at h1; omega
    | some u =>
      cases hb : look Q (64 * k' + (j : Int)) with
      | none => have := hval _ _ ha; rw [ha, hb] at h1; simp at h1; omega
      | some v => rw [ha, hb] at h1; simp at h1; rw [h1]
  · intro e
    apply Subtype.ext
    show conZ (filt Q k) = conZ (filt Q k')
    apply List.ext_getElem
    · rw [conZ_len, conZ_len]
    · intro j h1 h2
      rw [conZ_len] at h1
      have c1 := con_look h k j h1
      have c2 := con_look h k' j h1
      have he : look Q (64 * k + (j : Int)) = look Q (64 * k' + (j : Int)) := by
        have g := congrArg (fun l => l[j]?) e
        simpa [arr, h1] using g
      rw [List.getD_eq_getElem?_getD, List.getElem?_eq_getElem (by rw [conZ_len]; exact h1)] at c1 c2
      simp only [Option.getD_some] at c1 c2
      rw [c1, c2, he]
theorem allB_len {Q : List Pr} (h : Asc Q) (hv : ∀ q ∈ Q, 0 ≤ q.2) : (allB Q).length = blocksN Q := by
  rw [blocksN_arr h]
  exact nub_len_congr (blkB Q) (arr Q) (keys Q) (fun x _ y _ => blkB_arr h hv x y)

/-- One run more. -/
theorem filt_append (A B : List Pr) (k : Int) : filt (A ++ B) k = filt A k ++ filt B k := List.filter_append A B
theorem filt_run {B : List Pr} {k0 : Int} (hB : ∀ q ∈ B, q.1 / 64 = k0) (k : Int) : filt B k = if k = k0 then B else [] := by
  unfold filt
  split
  · rename_i h
    exact List.filter_eq_self.2 (fun q hq => by simp [hB q hq, h])
  · rename_i h
    exact List.filter_eq_nil_iff.2 (fun q hq e => h (by simp [hB q hq] at e; exact e.symm))
theorem filt_none {A : List Pr} {k0 : Int} (hA : ∀ q ∈ A, q.1 / 64 ≠ k0) : filt A k0 = [] := List.filter_eq_nil_iff.2 (fun q hq e => hA q hq (by simpa using e))
theorem keys_run {A B : List Pr} {k0 : Int} (hB : ∀ q ∈ B, q.1 / 64 = k0) (hne : B ≠ []) (hA : ∀ q ∈ A, q.1 / 64 ≠ k0) : keys (A ++ B) = keys A ++ [k0] := by
  have gen : ∀ (B : List Pr) (a : List Int), k0 ∈ a → (∀ q ∈ B, q.1 / 64 = k0) → (B.map (fun q => q.1 / 64)).foldl addN a = a := by
    intro B
    induction B with
    | nil => intro a _ _; rfl
    | cons q B ih =>
      intro a ha h
      rw [List.map_cons, List.foldl_cons, h q (by simp)]
      have : addN a k0 = a := by unfold addN; rw [if_pos ha]
      rw [this]
      exact ih a ha (fun x hx => h x (by simp [hx]))
  cases B with
  | nil => exact absurd rfl hne
  | cons q B =>
    unfold keys nub
    rw [List.map_append, List.foldl_append, List.map_cons, List.foldl_cons, hB q (by simp)]
    have hnot : k0 ∉ (A.map (fun q => q.1 / 64)).foldl addN [] := by
      intro hm
      have := (mem_nub (A.map (fun q : Pr => q.1 / 64)) k0).1 hm
      obtain ⟨x, hx, e⟩ := List.mem_map.1 this
      exact hA x hx e
    have e2 : addN ((A.map (fun q => q.1 / 64)).foldl addN []) k0 = (A.map (fun q => q.1 / 64)).foldl addN [] ++ [k0] := by
      generalize (A.map (fun q => q.1 / 64)).foldl addN [] = a at hnot
      unfold addN
      rw [if_neg hnot]
    rw [e2]
    exact gen B _ (by simp) (fun x hx => hB x (by simp [hx]))
theorem allB_run {A B : List Pr} {k0 : Int} (hB : ∀ q ∈ B, q.1 / 64 = k0) (hne : B ≠ []) (hA : ∀ q ∈ A, q.1 / 64 ≠ k0) : allB (A ++ B) = addN (allB A) (conB B) := by
  unfold allB
  rw [keys_run hB hne hA, List.map_append, List.map_cons, List.map_nil, nub_snoc]
  have e1 : (keys A).map (blkB (A ++ B)) = (keys A).map (blkB A) := by
    apply List.map_congr_left
    intro k hk
    have hk2 : k ≠ k0 := by
      intro e
      subst e
      have := (mem_nub (A.map (fun q : Pr => q.1 / 64)) k).1 hk
      obtain ⟨x, hx, e⟩ := List.mem_map.1 this
      exact hA x hx e
    unfold blkB
    rw [filt_append, filt_run hB, if_neg hk2, List.append_nil]
  have e2 : blkB (A ++ B) k0 = conB B := by unfold blkB; rw [filt_append, filt_none hA, filt_run hB, if_pos rfl, List.nil_append]
  rw [e1, e2]
/-- What the contents' list leads to. -/
def Leads (Q : List Pr) (N : List BL) (C : List Int) : Prop := ∀ k : Nat, k < C.length → ∃ ix : Nat, C.getD k 0 = (ix : Int) ∧ (zB :: N)[ix]? = some (blkB Q (k : Int))
theorem idx_get {N : List BL} {z : BL} (h : z ∈ N) : (zB :: N)[N.idxOf z + 1]? = some z := by
  rw [List.getElem?_cons_succ]
  have := List.idxOf_lt_length_of_mem h
  rw [List.getElem?_eq_getElem this, List.getElem_idxOf this]
theorem leads_run {A B : List Pr} {N : List BL} {C : List Int} {k0 : Nat} (hl : Leads A N C) (hB : ∀ q ∈ B, q.1 / 64 = (k0 : Int)) (hA : ∀ q ∈ A, q.1 / 64 ≠ (k0 : Int)) (hk : k0 < C.length) :
    Leads (A ++ B) (addN N (conB B)) (C.set k0 (((addN N (conB B)).idxOf (conB B) : Int) + 1)) := by
  intro k hk2
  rw [List.length_set] at hk2
  by_cases e : k = k0
  · subst e
    refine ⟨(addN N (conB B)).idxOf (conB B) + 1, ?_, ?_⟩
    · rw [List.getD_eq_getElem?_getD, List.getElem?_set_self hk]
      rfl
    · have e2 : blkB (A ++ B) (k : Int) = conB B := by unfold blkB; rw [filt_append, filt_none hA, filt_run hB, if_pos rfl, List.nil_append]
      rw [e2]
      exact idx_get (mem_addN.2 (.inr rfl))
  · obtain ⟨ix, h1, h2⟩ := hl k hk2
    refine ⟨ix, ?_, ?_⟩
    · rw [List.getD_eq_getElem?_getD, List.getElem?_set_ne (fun h => e h.symm), ← List.getD_eq_getElem?_getD]
      exact h1
    · have e2 : blkB (A ++ B) (k : Int) = blkB A (k : Int) := by unfold blkB; rw [filt_append, filt_run hB, if_neg (by omega), List.append_nil]
      rw [e2]
      unfold addN
      split
      · exact h2
      · rw [← List.cons_append, List.getElem?_append_left (List.getElem?_eq_some_iff.1 h2).1]
        exact h2
theorem leads_start (n : Nat) : Leads [] [] (List.replicate n 0) := by
  intro k hk
  refine ⟨0, ?_, ?_⟩
  · rw [List.getD_eq_getElem?_getD, List.getElem?_replicate]
    split <;> rfl
  · rfl
/-- The runs of a list in order. -/
theorem run_parts {Q2 : List Pr} {q : Pr} {R : List Pr} (hQ : Q2 = q :: R) (ha : Asc Q2) : (∀ x ∈ Q2.take (runL q.1 Q2), x.1 / 64 = q.1 / 64) ∧ 0 < runL q.1 Q2 ∧ runL q.1 Q2 ≤ Q2.length ∧ (∀ x ∈ Q2.drop (runL q.1 Q2), q.1 / 64 < x.1 / 64) := by
  have htw : Q2.take (runL q.1 Q2) = Q2.takeWhile (sameB q.1) := by
    unfold runL
    have := List.takeWhile_append_dropWhile (p := sameB q.1) (l := Q2)
    have h2 := List.take_left (l₁ := Q2.takeWhile (sameB q.1)) (l₂ := Q2.dropWhile (sameB q.1))
    rwa [this] at h2
  have hle : runL q.1 Q2 ≤ Q2.length := tw_le _ _
  refine ⟨?_, ?_, hle, ?_⟩
  · intro x hx
    rw [htw] at hx
    have hall : ∀ (l : List Pr), ∀ y ∈ l.takeWhile (sameB q.1), sameB q.1 y = true := by
      intro l
      induction l with
      | nil => intro y hy; simp at hy
      | cons z l ih =>
        intro y hy
        by_cases hz : sameB q.1 z = true
        · rw [List.takeWhile_cons_of_pos hz] at hy
          rcases List.mem_cons.1 hy with rfl | hy
          · exact hz
          · exact ih y hy
        · rw [List.takeWhile_cons_of_neg hz] at hy
          simp at hy
    have := hall Q2 x hx
    simpa [sameB] using this
  · unfold runL
    rw [hQ, List.takeWhile_cons_of_pos (by simp [sameB])]
    simp
  · intro x hx
    obtain ⟨i, hi, rfl⟩ := List.getElem_of_mem hx
    rw [List.length_drop] at hi
    have hm : runL q.1 Q2 < Q2.length := by omega
    have h1 := tw_at (sameB q.1) Q2 (runL q.1 Q2) hm rfl
    have hp := List.pairwise_iff_getElem.1 ha
    have h0 : Q2[0]'(by omega) = q := by subst hQ; rfl
    have hr0 : 0 < runL q.1 Q2 := by
      unfold runL
      rw [hQ, List.takeWhile_cons_of_pos (by simp [sameB])]
      simp
    have a1 := hp 0 (runL q.1 Q2) (by omega) hm hr0
    rw [h0] at a1
    have a2 : (Q2[runL q.1 Q2]).1 / 64 ≠ q.1 / 64 := by simpa [sameB] using h1
    rw [List.getElem_drop]
    by_cases hi0 : i = 0
    · subst hi0
      simp only [Nat.add_zero]
      omega
    · have a3 := hp (runL q.1 Q2) (runL q.1 Q2 + i) hm (by omega) (by omega)
      omega
end Go.Proofs.Ytcoiddmgcoeocaa.Tr
