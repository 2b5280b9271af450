/- Blocks as arrays: plain mathematics. -/
import Derived.Test.YtcoiddmgcoeocaaTp
namespace Go.Proofs.Ytcoiddmgcoeocaa.Tr
set_option linter.unusedVariables false

section
variable {α : Type} [DecidableEq α]
theorem nodup_addN {a : List α} (h : a.Nodup) (x : α) : (addN a x).Nodup := by
  unfold addN
  split
  · exact h
  · rename_i hx
    rw [List.nodup_append]
    refine ⟨h, by simp, ?_⟩
    intro y hy z hz
    simp at hz
    subst hz
    intro e
    subst e
    exact hx hy
theorem nodup_nub (L : List α) : (nub L).Nodup := by
  have gen : ∀ (L a : List α), a.Nodup → (L.foldl addN a).Nodup := by
    intro L
    induction L with
    | nil => intro a h; exact h
    | cons x L ih => intro a h; exact ih _ (nodup_addN h x)
  exact gen L [] List.nodup_nil
/-- Lists without repeats that have the same things are equally long. -/
theorem len_le_of_sub : ∀ (A B : List α), A.Nodup → (∀ x ∈ A, x ∈ B) → A.length ≤ B.length
  | [], B, _, _ => by simp
  | x :: A, B, hn, hs => by
    rw [List.nodup_cons] at hn
    have hx : x ∈ B := hs x (by simp)
    have := len_le_of_sub A (B.erase x) hn.2 (fun y hy => by
      have hne : y ≠ x := fun e => hn.1 (by rw [← e]; exact hy)
      exact (List.mem_erase_of_ne hne).2 (hs y (by simp [hy])))
    rw [List.length_erase_of_mem hx] at this
    have hp : 0 < B.length := List.length_pos_of_mem hx
    rw [List.length_cons]
    omega
theorem nub_len_set {L M : List α} (h : ∀ x, x ∈ L ↔ x ∈ M) : (nub L).length = (nub M).length := by
  apply Nat.le_antisymm
  · exact len_le_of_sub _ _ (nodup_nub L) (fun x hx => (mem_nub M x).2 ((h x).1 ((mem_nub L x).1 hx)))
  · exact len_le_of_sub _ _ (nodup_nub M) (fun x hx => (mem_nub L x).2 ((h x).2 ((mem_nub M x).1 hx)))
end
/-- How many different ones there are, whatever tells them apart. -/
theorem nub_len_congr {α β γ : Type} [DecidableEq β] [DecidableEq γ] (f : α → β) (g : α → γ) (L : List α) (h : ∀ x ∈ L, ∀ y ∈ L, f x = f y ↔ g x = g y) : (nub (L.map f)).length = (nub (L.map g)).length := by
  have gen : ∀ (L : List α) (A : List α), (∀ x ∈ A ++ L, ∀ y ∈ A ++ L, f x = f y ↔ g x = g y) → ∀ (a : List β) (b : List γ), (∀ z, z ∈ a ↔ z ∈ A.map f) → (∀ z, z ∈ b ↔ z ∈ A.map g) → a.length = b.length → ((L.map f).foldl addN a).length = ((L.map g).foldl addN b).length := by
    intro L
    induction L with
    | nil => intro A _ a b _ _ hl; exact hl
    | cons x L ih =>
      intro A h a b ha hb hl
      rw [List.map_cons, List.map_cons, List.foldl_cons, List.foldl_cons]
      have hiff : f x ∈ a ↔ g x ∈ b := by
        rw [ha, hb]
        constructor
        · intro hm
          obtain ⟨y, hy, e⟩ := List.mem_map.1 hm
          exact List.mem_map.2 ⟨y, hy, (h y (by simp [hy]) x (by simp)).1 e⟩
        · intro hm
          obtain ⟨y, hy, e⟩ := List.mem_map.1 hm
          exact List.mem_map.2 ⟨y, hy, (h y (by simp [hy]) x (by simp)).2 e⟩
      refine ih (A ++ [x]) (by simpa using h) _ _ ?_ ?_ ?_
      · intro z; rw [mem_addN, ha]; simp [eq_comm]
      · intro z; rw [mem_addN, hb]; simp [eq_comm]
      · unfold addN
        by_cases hx : f x ∈ a
        · rw [if_pos hx, if_pos (hiff.1 hx)]; exact hl
        · rw [if_neg hx, if_neg (fun e => hx (hiff.2 e))]; simp [hl]
  exact gen L [] (by simpa using h) [] [] (by simp) (by simp) rfl

/-- Numbers that rise. -/
def Asc (Q : List (Int × Int)) : Prop := Q.Pairwise (fun a b => a.1 < b.1)
def look (Q : List (Int × Int)) (n : Int) : Option Int := (Q.find? (fun q => q.1 == n)).map (·.2)
/-- A block as an array. -/
def arr (Q : List (Int × Int)) (k : Int) : List (Option Int) := (List.range 64).map (fun j : Nat => look Q (64 * k + (j : Int)))
def places : Int → List (Option Int) → List (Int × Int)
  | _, [] => []
  | j, none :: a => places (j + 1) a
  | j, some v :: a => (j, v) :: places (j + 1) a
theorem places_ge : ∀ (a : List (Option Int)) (j : Int), ∀ c ∈ places j a, j ≤ c.1
  | [], j => by intro c hc; simp [places] at hc
  | none :: a, j => by intro c hc; have := places_ge a (j + 1) c hc; omega
  | some v :: a, j => by
    intro c hc
    rcases List.mem_cons.1 hc with rfl | h
    · exact Int.le_refl _
    · have := places_ge a (j + 1) c h; omega
theorem places_inj : ∀ (a b : List (Option Int)) (j : Int), a.length = b.length → places j a = places j b → a = b
  | [], [], _, _, _ => rfl
  | [], _ :: _, _, h, _ => by simp at h
  | _ :: _, [], _, h, _ => by simp at h
  | none :: a, none :: b, j, h, e => by rw [places_inj a b (j + 1) (by simpa using h) e]
  | none :: a, some v :: b, j, h, e => by
    have e' : places (j + 1) a = (j, v) :: places (j + 1) b := e
    have := places_ge a (j + 1) (j, v) (by rw [e']; simp)
    simp only at this
    omega
  | some v :: a, none :: b, j, h, e => by
    have e' : (j, v) :: places (j + 1) a = places (j + 1) b := e
    have := places_ge b (j + 1) (j, v) (by rw [← e']; simp)
    simp only at this
    omega
  | some v :: a, some u :: b, j, h, e => by
    have e' : (j, v) :: places (j + 1) a = (j, u) :: places (j + 1) b := e
    rw [List.cons.injEq] at e'
    obtain ⟨e1, e2⟩ := e'
    rw [places_inj a b (j + 1) (by simpa using h) e2]
    simp at e1
    rw [e1]
theorem look_none {Q : List (Int × Int)} {n : Int} (h : ∀ q ∈ Q, n < q.1) : look Q n = none := by
  unfold look
  rw [List.find?_eq_none.2 ?_]
  · rfl
  · intro q hq e
    have := h q hq
    simp at e
    omega
theorem look_cons_ne {q : Int × Int} {Q : List (Int × Int)} {n : Int} (h : q.1 ≠ n) : look (q :: Q) n = look Q n := by
  have : (q.1 == n) = false := by simpa using h
  unfold look
  rw [List.find?_cons, this]
theorem look_cons_eq {q : Int × Int} {Q : List (Int × Int)} {n : Int} (h : q.1 = n) : look (q :: Q) n = some q.2 := by
  have : (q.1 == n) = true := by simpa using h
  unfold look
  rw [List.find?_cons, this]
  rfl
/-- What lies from n on, up to m: what is at n, and what lies behind. -/
theorem filter_step (n m : Int) (hnm : n < m) : ∀ (Q : List (Int × Int)), Asc Q → Q.filter (fun q => decide (n ≤ q.1) && decide (q.1 < m)) = ((look Q n).map (fun v => (n, v))).toList ++ Q.filter (fun q => decide (n + 1 ≤ q.1) && decide (q.1 < m))
  | [], _ => by simp [look]
  | q :: Q, h => by
    have hp := List.pairwise_cons.1 h
    have ih := filter_step n m hnm Q hp.2
    rcases Int.lt_trichotomy q.1 n with hlt | heq | hgt
    · have h1 : (decide (n ≤ q.1) && decide (q.1 < m)) = false := by simp; omega
      have h2 : (decide (n + 1 ≤ q.1) && decide (q.1 < m)) = false := by simp; omega
      have h3 : look (q :: Q) n = look Q n := look_cons_ne (by omega)
      rw [List.filter_cons, List.filter_cons, h1, h2, h3]
      simpa using ih
    · have h1 : (decide (n ≤ q.1) && decide (q.1 < m)) = true := by simp; omega
      have h2 : (decide (n + 1 ≤ q.1) && decide (q.1 < m)) = false := by simp; omega
      have h3 : look (q :: Q) n = some q.2 := look_cons_eq heq
      have h4 : look Q n = none := look_none (fun x hx => by have := hp.1 x hx; omega)
      rw [h4] at ih
      rw [List.filter_cons, List.filter_cons, h1, h2, h3]
      simp only [Option.map_none, Option.toList_none, List.nil_append] at ih
      simp only [if_true, Bool.false_eq_true, if_false, Option.map_some, Option.toList_some, List.singleton_append]
      rw [ih]
      congr 1
      exact Prod.ext heq rfl
    · have h3 : look (q :: Q) n = none := look_none (fun x hx => by
        rcases List.mem_cons.1 hx with rfl | hx
        · exact hgt
        · have := hp.1 x hx; omega)
      rw [h3]
      simp only [Option.map_none, Option.toList_none, List.nil_append]
      apply List.filter_congr
      intro x hx
      have hx' : n < x.1 := by
        rcases List.mem_cons.1 hx with rfl | hx
        · exact hgt
        · have := hp.1 x hx; omega
      rw [decide_eq_true (show n ≤ x.1 by omega), decide_eq_true (show n + 1 ≤ x.1 by omega)]
theorem filter_places (Q : List (Int × Int)) (h : Asc Q) (k : Int) : ∀ (d j : Nat), j + d = 64 → (Q.filter (fun q => decide (64 * k + (j : Int) ≤ q.1) && decide (q.1 < 64 * k + 64))).map (fun q => (q.1 - 64 * k, q.2)) = places (j : Int) ((List.range' j d).map (fun i : Nat => look Q (64 * k + (i : Int))))
  | 0, j, hj => by
    have : Q.filter (fun q => decide (64 * k + (j : Int) ≤ q.1) && decide (q.1 < 64 * k + 64)) = [] := by
      rw [List.filter_eq_nil_iff]
      intro q _ e
      simp at e
      omega
    rw [this]
    rfl
  | d + 1, j, hj => by
    have ih := filter_places Q h k d (j + 1) (by omega)
    rw [filter_step (64 * k + (j : Int)) (64 * k + 64) (by omega) Q h, List.map_append, List.range'_succ, List.map_cons]
    have e : (64 * k + (j : Int) + 1) = 64 * k + ((j + 1 : Nat) : Int) := by omega
    rw [e, ih]
    have ec : ((j + 1 : Nat) : Int) = (j : Int) + 1 := by omega
    cases hl : look Q (64 * k + (j : Int)) with
    | none => simp [places, ec]
    | some v =>
      simp only [Option.map_some, Option.toList_some, List.map_cons, List.map_nil, List.singleton_append, places, ec]
      congr 1
      exact Prod.ext (by simp only; omega) rfl
/-- A content is its array. -/
theorem cont_places {Q : List (Int × Int)} (h : Asc Q) (k : Int) : cont Q k = places 0 (arr Q k) := by
  have := filter_places Q h k 64 0 rfl
  unfold arr cont
  rw [List.range_eq_range']
  rw [show ((0 : Nat) : Int) = 0 from rfl] at this
  rw [← this]
  have ef : Q.filter (fun q => q.1 / 64 == k) = Q.filter (fun q => decide (64 * k + 0 ≤ q.1) && decide (q.1 < 64 * k + 64)) := by
    apply List.filter_congr
    intro q _
    by_cases e : q.1 / 64 = k
    · have : (q.1 / 64 == k) = true := by simpa using e
      rw [this]
      symm
      simp
      omega
    · have : (q.1 / 64 == k) = false := by simpa using e
      rw [this]
      symm
      simp
      omega
  rw [ef]
  apply List.map_congr_left
  intro q hq
  have := (List.mem_filter.1 hq).2
  simp at this
  exact Prod.ext (by simp only; omega) rfl
theorem blocksN_arr {Q : List (Int × Int)} (h : Asc Q) : blocksN Q = (nub ((keys Q).map (arr Q))).length := by
  unfold blocksN
  apply nub_len_congr
  intro x _ y _
  rw [cont_places h, cont_places h]
  constructor
  · intro e
    exact places_inj _ _ 0 (by simp [arr]) e
  · intro e
    rw [e]
end Go.Proofs.Ytcoiddmgcoeocaa.Tr
