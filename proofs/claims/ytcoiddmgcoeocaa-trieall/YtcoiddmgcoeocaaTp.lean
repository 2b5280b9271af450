/- Chapter 8's blocks in plain functions: contents, their texts, how many different ones. -/
import Derived.Test.YtcoiddmgcoeocaaVal
import Derived.Test.YtcoiddmgcoeocaaMem
namespace Go.Proofs.Ytcoiddmgcoeocaa.Tr
open Go.Proofs.Ytcoiddmgcoeocaa.Ucs Go.Proofs.Ytcoiddmgcoeocaa.Mem
set_option linter.unusedVariables false

section
variable {α β : Type} [DecidableEq α] [DecidableEq β]
def addN (a : List α) (x : α) : List α := if x ∈ a then a else a ++ [x]
/-- Each once, in the order of their first places. -/
def nub (L : List α) : List α := L.foldl addN []
theorem nub_nil : nub ([] : List α) = [] := rfl
theorem nub_snoc (L : List α) (x : α) : nub (L ++ [x]) = addN (nub L) x := by simp [nub, List.foldl_append]
theorem mem_addN {a : List α} {x y : α} : y ∈ addN a x ↔ y ∈ a ∨ y = x := by
  unfold addN
  split
  · rename_i h
    constructor
    · exact .inl
    · rintro (h1 | rfl)
      · exact h1
      · exact h
  · simp
theorem mem_foldl (L : List α) : ∀ (a : List α) (y : α), y ∈ L.foldl addN a ↔ y ∈ a ∨ y ∈ L := by
  induction L with
  | nil => intro a y; simp
  | cons x L ih => intro a y; rw [List.foldl_cons, ih, mem_addN, List.mem_cons, or_assoc]
theorem mem_nub (L : List α) (y : α) : y ∈ nub L ↔ y ∈ L := by unfold nub; rw [mem_foldl]; simp
theorem length_addN (a : List α) (x : α) : (addN a x).length ≤ a.length + 1 := by unfold addN; split <;> simp
theorem length_nub (L : List α) : (nub L).length ≤ L.length := by
  have gen : ∀ (L a : List α), (L.foldl addN a).length ≤ a.length + L.length := by
    intro L
    induction L with
    | nil => intro a; simp
    | cons x L ih => intro a; have := ih (addN a x); have := length_addN a x; rw [List.foldl_cons, List.length_cons]; omega
  have := gen L []
  simpa [nub] using this
theorem nub_map (f : α → β) (L : List α) (h : ∀ x ∈ L, ∀ y ∈ L, f x = f y → x = y) : nub (L.map f) = (nub L).map f := by
  have gen : ∀ (L a : List α), (∀ x ∈ a ++ L, ∀ y ∈ a ++ L, f x = f y → x = y) → (L.map f).foldl addN (a.map f) = (L.foldl addN a).map f := by
    intro L
    induction L with
    | nil => intro a _; rfl
    | cons x L ih =>
      intro a h
      rw [List.map_cons, List.foldl_cons, List.foldl_cons]
      have e : addN (a.map f) (f x) = (addN a x).map f := by
        unfold addN
        by_cases hx : x ∈ a
        · rw [if_pos hx, if_pos (List.mem_map_of_mem hx)]
        · rw [if_neg hx, if_neg ?_]
          · simp
          · intro hm
            obtain ⟨y, hy, e⟩ := List.mem_map.1 hm
            exact hx (by rw [← h y (by simp [hy]) x (by simp) e]; exact hy)
      rw [e]
      apply ih
      intro y hy z hz
      refine h y ?_ z ?_
      · rcases List.mem_append.1 hy with h1 | h1
        · rcases mem_addN.1 h1 with h2 | rfl
          · simp [h2]
          · simp
        · simp [h1]
      · rcases List.mem_append.1 hz with h1 | h1
        · rcases mem_addN.1 h1 with h2 | rfl
          · simp [h2]
          · simp
        · simp [h1]
  have := gen L [] (by simpa using h)
  simpa [nub] using this
end

/-- A number's digits, as bytes. -/
def hexL (u : Int) : List UInt8 := (hex u).data.toList
/-- What a block has at one place, as a text. -/
def itemC (c : Int × Int) : List UInt8 := hexL c.1 ++ hexL (c.2 % 4096) ++ hexL (c.2 / 4096) ++ [59]
def txtC (C : List (Int × Int)) : List UInt8 := C.flatMap itemC
/-- The content of a block: places and values. -/
def cont (Q : List (Int × Int)) (k : Int) : List (Int × Int) := (Q.filter (fun q => q.1 / 64 == k)).map (fun q => (q.1 % 64, q.2))
def keys (Q : List (Int × Int)) : List Int := nub (Q.map (fun q => q.1 / 64))
/-- How many different contents there are. -/
def blocksN (Q : List (Int × Int)) : Nat := (nub ((keys Q).map (cont Q))).length

theorem cut_at {A A' R R' : List UInt8} {c : UInt8} (h1 : ∀ x ∈ A, x ≠ c) (h2 : ∀ x ∈ A', x ≠ c) (h : A ++ c :: R = A' ++ c :: R') : A = A' ∧ R = R' := by
  induction A generalizing A' with
  | nil =>
    cases A' with
    | nil => simpa using h
    | cons y A' => simp at h; exact absurd h.1.symm (h2 y (by simp))
  | cons x A ih =>
    cases A' with
    | nil => simp at h; exact absurd h.1 (h1 x (by simp))
    | cons y A' =>
      simp only [List.cons_append, List.cons.injEq] at h
      obtain ⟨rfl, h⟩ := h
      obtain ⟨rfl, rfl⟩ := ih (fun z hz => h1 z (by simp [hz])) (fun z hz => h2 z (by simp [hz])) h
      exact ⟨rfl, rfl⟩
theorem dig_ne (n : Nat) (h : n < 16) : dig n ≠ 85 ∧ dig n ≠ 59 :=
  (show ∀ n : Fin 16, dig n ≠ 85 ∧ dig n ≠ 59 by decide) ⟨n, h⟩
theorem lowL_ne : ∀ (k : Nat) (u : Int), ∀ x ∈ lowL k u, x ≠ 85 ∧ x ≠ 59
  | 0, _ => by intro x hx; simp [lowL] at hx
  | k + 1, u => by
    intro x hx
    rw [lowL] at hx
    rcases List.mem_cons.1 hx with rfl | h
    · exact dig_ne _ (by omega)
    · exact lowL_ne k u x h
theorem hexL_is {u : Int} (h : scB u = true) : hexL u = 85 :: 43 :: lowL (cnt u) u := hex_list h
theorem hexL_ne {u : Int} (h : scB u = true) : hexL u ≠ [] := by rw [hexL_is h]; simp
theorem hexL_inj {u v : Int} (hu : scB u = true) (hv : scB v = true) (h : lowL (cnt u) u = lowL (cnt v) v) : u = v :=
  hex_inj hu hv (by
    have : (hex u).data.toList = (hex v).data.toList := by rw [hex_list hu, hex_list hv, h]
    exact ByteArray.ext (Array.toList_inj.1 this))
/-- Places and values that a content may have. -/
def okC (c : Int × Int) : Prop := (0 ≤ c.1 ∧ c.1 < 64) ∧ 0 ≤ c.2 ∧ c.2 ≤ 16777215
theorem okC_sc {c : Int × Int} (h : okC c) : scB c.1 = true ∧ scB (c.2 % 4096) = true ∧ scB (c.2 / 4096) = true := by
  obtain ⟨⟨a, b⟩, d, e⟩ := h
  refine ⟨scB_iff.2 ?_, scB_iff.2 ?_, scB_iff.2 ?_⟩ <;> omega
theorem item_cut {x y : Int × Int} {A B : List UInt8} (hx : okC x) (hy : okC y) (h : itemC x ++ A = itemC y ++ B) : x = y ∧ A = B := by
  obtain ⟨x1, x2, x3⟩ := okC_sc hx
  obtain ⟨y1, y2, y3⟩ := okC_sc hy
  unfold itemC at h
  rw [hexL_is x1, hexL_is x2, hexL_is x3, hexL_is y1, hexL_is y2, hexL_is y3] at h
  simp only [List.append_assoc, List.cons_append, List.cons.injEq, true_and, List.nil_append] at h
  obtain ⟨e1, h⟩ := cut_at (fun z hz => (lowL_ne _ _ z hz).1) (fun z hz => (lowL_ne _ _ z hz).1) h
  simp only [List.cons.injEq, true_and] at h
  obtain ⟨e2, h⟩ := cut_at (fun z hz => (lowL_ne _ _ z hz).1) (fun z hz => (lowL_ne _ _ z hz).1) h
  simp only [List.cons.injEq, true_and] at h
  obtain ⟨e3, h⟩ := cut_at (fun z hz => (lowL_ne _ _ z hz).2) (fun z hz => (lowL_ne _ _ z hz).2) h
  have d1 := hexL_inj x1 y1 e1
  have d2 := hexL_inj x2 y2 e2
  have d3 := hexL_inj x3 y3 e3
  exact ⟨Prod.ext d1 (by omega), h⟩
theorem item_pos {x : Int × Int} (hx : okC x) : itemC x ≠ [] := by unfold itemC; simp
theorem txt_inj : ∀ (C D : List (Int × Int)), (∀ c ∈ C, okC c) → (∀ c ∈ D, okC c) → txtC C = txtC D → C = D
  | [], [], _, _, _ => rfl
  | [], y :: D, _, _, h => by simp [txtC, itemC] at h
  | x :: C, [], _, _, h => by simp [txtC, itemC] at h
  | x :: C, y :: D, hC, hD, h => by
    have e : itemC x ++ txtC C = itemC y ++ txtC D := by simpa [txtC] using h
    obtain ⟨rfl, e2⟩ := item_cut (hC x (by simp)) (hD y (by simp)) e
    rw [txt_inj C D (fun c hc => hC c (by simp [hc])) (fun c hc => hD c (by simp [hc])) e2]
theorem cont_ok {Q : List (Int × Int)} (h : ∀ q ∈ Q, 0 ≤ q.1 ∧ 0 ≤ q.2 ∧ q.2 ≤ 16777215) (k : Int) : ∀ c ∈ cont Q k, okC c := by
  intro c hc
  obtain ⟨q, hq, rfl⟩ := List.mem_map.1 hc
  obtain ⟨h1, h2, h3⟩ := h q (List.mem_filter.1 hq).1
  exact ⟨⟨by simp only; omega, by simp only; omega⟩, h2, h3⟩
/-- Texts tell contents apart. -/
theorem texts_count {Q : List (Int × Int)} (h : ∀ q ∈ Q, 0 ≤ q.1 ∧ 0 ≤ q.2 ∧ q.2 ≤ 16777215) : (nub ((keys Q).map (fun k => txtC (cont Q k)))).length = blocksN Q := by
  have e : (keys Q).map (fun k => txtC (cont Q k)) = ((keys Q).map (cont Q)).map txtC := by simp
  rw [e, nub_map, List.length_map]
  · rfl
  · intro x hx y hy
    obtain ⟨k, _, rfl⟩ := List.mem_map.1 hx
    obtain ⟨k', _, rfl⟩ := List.mem_map.1 hy
    exact txt_inj _ _ (cont_ok h k) (cont_ok h k')
theorem cont_snoc (Q : List (Int × Int)) (q : Int × Int) (k : Int) : cont (Q ++ [q]) k = if q.1 / 64 = k then cont Q k ++ [(q.1 % 64, q.2)] else cont Q k := by
  unfold cont
  by_cases h : q.1 / 64 = k
  · rw [if_pos h]; simp [List.filter_append, h]
  · rw [if_neg h]; simp [List.filter_append, h]
theorem keys_snoc (Q : List (Int × Int)) (q : Int × Int) : keys (Q ++ [q]) = addN (keys Q) (q.1 / 64) := by
  unfold keys
  rw [List.map_append, List.map_cons, List.map_nil, nub_snoc]
theorem txt_snoc (C : List (Int × Int)) (c : Int × Int) : txtC (C ++ [c]) = txtC C ++ itemC c := by simp [txtC]
theorem cont_nil (Q : List (Int × Int)) (k : Int) : cont Q k = [] ↔ k ∉ keys Q := by
  unfold keys
  rw [mem_nub]
  simp [cont, List.filter_eq_nil_iff]
theorem txt_nil (C : List (Int × Int)) : txtC C = [] ↔ C = [] := by
  cases C with
  | nil => simp [txtC]
  | cons x C => simp [txtC, itemC]
end Go.Proofs.Ytcoiddmgcoeocaa.Tr
