/- What is written is read again (13.4), of the plain functions: letters with their marks. -/
import Derived.Test.YtfehmbicolllkaaWB13
import Derived.Test.YtfehmbicolllkaaWH13
namespace Go.Proofs.Ytfehmbicolllkaa.C13
open Go.Proofs.Ytfehmbicolllkaa.Mem
set_option linter.unusedVariables false
set_option linter.unusedSimpArgs false

/-- A step: the scalars that come, and what is held then. -/
def stp (he : Int) (n : Nat) : List Int × Int :=
  if he = 0 then (if hoR (n : Int) = true then ([], (n : Int)) else ([(n : Int)], 0))
  else match coR he (n : Int) with
    | some u => ([(u : Int)], 0)
    | none => if hoR (n : Int) = true then ([he], (n : Int)) else ([he, (n : Int)], 0)
def rdF : Int → List UInt8 → List Int × Int
  | he, [] => ([], he)
  | he, c :: T => ((stp he (vsR c.toNat)).1 ++ (rdF (stp he (vsR c.toNat)).2 T).1, (rdF (stp he (vsR c.toNat)).2 T).2)
def pend (he : Int) : List Int := if he = 0 then [] else [he]
def byt (u : Int) : List UInt8 := (seR u).getD []
def txt (W : List Int) : List UInt8 := W.flatMap byt
theorem rdF_app : ∀ (A B : List UInt8) (he : Int), rdF he (A ++ B) = ((rdF he A).1 ++ (rdF (rdF he A).2 B).1, (rdF (rdF he A).2 B).2)
  | [], B, he => by simp [rdF]
  | c :: A, B, he => by
    rw [List.cons_append, rdF, rdF, rdF_app A B]
    simp
theorem rdF_snoc (A : List UInt8) (c : UInt8) (he : Int) : rdF he (A ++ [c]) = ((rdF he A).1 ++ (stp (rdF he A).2 (vsR c.toNat)).1, (stp (rdF he A).2 (vsR c.toNat)).2) := by
  rw [rdF_app]
  simp [rdF]
/-- Scalars that are written, of which none makes another with the one ahead. -/
def okW : List Int → Prop
  | [] => True
  | u :: W => (seR u).isSome = true ∧ (∀ v, W.head? = some v → coR u v = none) ∧ okW W
theorem okW_snoc : ∀ (W : List Int) (u : Int), okW W → (seR u).isSome = true → (∀ v, W.getLast? = some v → coR v u = none) → okW (W ++ [u])
  | [], u, _, h1, _ => ⟨h1, by simp, trivial⟩
  | [a], u, h, h1, h2 => ⟨h.1, by intro v hv; simp at hv; subst hv; exact h2 a rfl, h1, by simp, trivial⟩
  | a :: b :: W, u, h, h1, h2 => by
    refine ⟨h.1, ?_, ?_⟩
    · intro v hv
      exact h.2.1 v (by simpa using hv)
    · exact okW_snoc (b :: W) u h.2.2 h1 (fun v hv => h2 v (by rw [List.getLast?_cons_cons]; exact hv))
theorem onR_back {u : Int} {b : Nat} (h : onR u = some b) : b < 256 ∧ (vsR b : Int) = u ∧ ¬ u = 65533 := by
  unfold onR at h
  split at h
  · cases h
  · rename_i h9
    have h1 := List.find?_some h
    simp only [decide_eq_true_eq] at h1
    exact ⟨List.mem_range.1 (List.mem_of_find?_eq_some h), h1, h9⟩
theorem sp_parts {u : Int} {l m : Nat} (h : spR u = some (l, m)) : hoR (l : Int) = true ∧ hoR (m : Int) = false ∧ ∃ n : Nat, u = (n : Int) ∧ coR (l : Int) (m : Int) = some n := by
  have ht : ∀ t ∈ trip, hoR (t.1 : Int) = true ∧ hoR (t.2.1 : Int) = false := by decide +kernel
  obtain ⟨n, hn, hc, _⟩ := spR_back h
  unfold spR at h
  cases e : trip.find? (fun p => decide ((p.2.2 : Int) = u)) with
  | none => rw [e] at h; cases h
  | some t =>
    rw [e] at h
    have h3 := Option.some.inj h
    have e1 : t.1 = l := congrArg Prod.fst h3
    have e2 : t.2.1 = m := congrArg Prod.snd h3
    have := ht t (List.mem_of_find?_eq_some e)
    rw [e1, e2] at this
    exact ⟨this.1, this.2, n, hn, hc⟩
theorem mark_not {l : Nat} (h : hoR (l : Int) = true) (he : Int) : coR he (l : Int) = none := by
  have ht : ∀ r ∈ ro, hoR (r.1 : Int) = false := by decide +kernel
  cases e : coR he (l : Int) with
  | none => rfl
  | some n =>
    obtain ⟨r, hr, er⟩ := List.any_eq_true.1 (coR_in e).2
    have er := of_decide_eq_true er
    have := ht r hr
    rw [er, h] at this
    cases this
/-- A scalar's bytes: one that stands for it, or a letter's and a mark's. -/
theorem byt_cases {u : Int} (h : (seR u).isSome = true) : (∃ b, b < 256 ∧ byt u = [b8 b] ∧ (vsR b : Int) = u ∧ ¬ u = 65533) ∨ (∃ l m x y n : Nat, x < 256 ∧ y < 256 ∧ byt u = [b8 x, b8 y] ∧ vsR x = l ∧ vsR y = m ∧ hoR (l : Int) = true ∧ u = (n : Int) ∧ coR (l : Int) (m : Int) = some n ∧ ¬ l = 65533 ∧ ¬ m = 65533) := by
  unfold byt
  cases h1 : onR u with
  | some b =>
    obtain ⟨q1, q2, q3⟩ := onR_back h1
    exact .inl ⟨b, q1, by simp only [seR, h1, Option.getD_some], q2, q3⟩
  | none =>
    cases h2 : spR u with
    | none => simp only [seR, h1, h2] at h; cases h
    | some p =>
      obtain ⟨l, m⟩ := p
      obtain ⟨x, y, h3, h4⟩ := spR_on h2
      obtain ⟨q1, q2, q3⟩ := onR_back h3
      obtain ⟨r1, r2, r3⟩ := onR_back h4
      obtain ⟨s1, s2, n, s3, s4⟩ := sp_parts h2
      exact .inr ⟨l, m, x, y, n, q1, r1, by simp only [seR, h1, h2, h3, h4, Option.getD_some], by omega, by omega, s1, s3, s4, by omega, by omega⟩
theorem byt_len {u : Int} (h : (seR u).isSome = true) : (byt u).length = 1 ∨ (byt u).length = 2 := by
  rcases byt_cases h with ⟨b, _, e, _⟩ | ⟨l, m, x, y, n, _, _, e, _⟩
  · rw [e]; exact .inl rfl
  · rw [e]; exact .inr rfl
theorem txt_legal : ∀ (W : List Int), okW W → ∀ c ∈ txt W, ¬ vsR c.toNat = 65533
  | [], _, c, hc => by simp [txt] at hc
  | u :: W, h, c, hc => by
    rw [txt, List.flatMap_cons, List.mem_append] at hc
    rcases hc with hc | hc
    · rcases byt_cases h.1 with ⟨b, hb, e, h1, h2⟩ | ⟨l, m, x, y, n, hx, hy, e, h1, h2, _, _, _, h3, h4⟩
      · rw [e] at hc
        simp at hc
        subst hc
        rw [b8_toNat hb]
        omega
      · rw [e] at hc
        simp at hc
        rcases hc with rfl | rfl
        · rw [b8_toNat hx]; omega
        · rw [b8_toNat hy]; omega
    · exact txt_legal W h.2.2 c hc
theorem fit_zero : fitR 0 0 0 0 = true := by decide +kernel
theorem pend_of {he : Int} (h : ¬ he = 0) : pend he = [he] := by rw [pend, if_neg h]
theorem stp_fit {he : Int} (hf : fitR 0 0 0 he = true) (n : Nat) : fitR 0 0 0 (stp he n).2 = true := by
  unfold stp
  split
  · split
    · rename_i h; exact ho_fit h
    · exact fit_zero
  · split
    · exact fit_zero
    · split
      · rename_i h; exact ho_fit h
      · exact fit_zero
theorem fit_ho {he : Int} (hf : fitR 0 0 0 he = true) (hz : ¬ he = 0) : hoR he = true := by
  unfold fitR at hf
  rw [Bool.and_eq_true, Bool.or_eq_true] at hf
  rcases hf.2 with h | h
  · exact absurd (of_decide_eq_true h) hz
  · exact h
theorem rdF_fit : ∀ (T : List UInt8) (he : Int), fitR 0 0 0 he = true → fitR 0 0 0 (rdF he T).2 = true
  | [], he, h => h
  | c :: T, he, h => by
    rw [rdF]
    exact rdF_fit T _ (stp_fit h _)
/-- What is written is read again, the last letter drained. -/
theorem back_plain : ∀ (W : List Int) (he : Int), okW W → fitR 0 0 0 he = true → (¬ he = 0 → ∀ v, W.head? = some v → coR he v = none) → (rdF he (txt W)).1 ++ pend (rdF he (txt W)).2 = pend he ++ W
  | [], he, _, _, _ => by simp [txt, rdF]
  | u :: W, he, h, hf, hc => by
    have hx : txt (u :: W) = byt u ++ txt W := by rw [txt, List.flatMap_cons]; rfl
    rw [hx]
    rcases byt_cases h.1 with ⟨b, hb, e, h1, h2⟩ | ⟨l, m, x, y, n, hx, hy, e, h1, h2, hl, hu, hlm, _, _⟩
    · rw [e, rdF_app]
      have e1 : rdF he [b8 b] = stp he (vsR b) := by rw [rdF, rdF, b8_toNat hb]; simp
      rw [e1]
      generalize vsR b = n at h1
      subst h1
      unfold stp
      by_cases hz : he = 0
      · subst hz
        simp only [if_true]
        by_cases hh : hoR (n : Int) = true
        · simp only [hh, if_true, List.nil_append]
          have := back_plain W (n : Int) h.2.2 (ho_fit hh) (fun _ => h.2.1)
          rw [this, pend_of (ho_ne hh)]
          simp [pend]
        · simp only [hh, Bool.false_eq_true, if_false]
          have := back_plain W 0 h.2.2 (by decide +kernel) (fun h => absurd rfl h)
          rw [List.append_assoc, this]
          simp [pend]
      · simp only [hz, if_false]
        rw [hc hz _ rfl]
        simp only
        by_cases hh : hoR (n : Int) = true
        · simp only [hh, if_true]
          have := back_plain W (n : Int) h.2.2 (ho_fit hh) (fun _ => h.2.1)
          rw [List.append_assoc, this, pend_of (ho_ne hh), pend_of hz]
          rfl
        · simp only [hh, Bool.false_eq_true, if_false]
          have := back_plain W 0 h.2.2 (by decide +kernel) (fun h => absurd rfl h)
          rw [List.append_assoc, this]
          simp [pend, hz]
    · rw [e, rdF_app]
      have e1 : rdF he [b8 x, b8 y] = ((stp he l).1 ++ (stp (stp he l).2 m).1, (stp (stp he l).2 m).2) := by
        rw [rdF, rdF, rdF, b8_toNat hx, b8_toNat hy, h1, h2]
        simp
      rw [e1]
      have hl0 := ho_ne hl
      have e2 : stp (l : Int) m = ([u], 0) := by
        unfold stp
        rw [if_neg hl0, hlm, hu]
      have this := back_plain W 0 h.2.2 (by decide +kernel) (fun h => absurd rfl h)
      by_cases hz : he = 0
      · subst hz
        have e3 : stp 0 l = ([], (l : Int)) := by
          unfold stp
          rw [if_pos rfl, if_pos hl]
        rw [e3]
        simp only [e2]
        rw [List.append_assoc, this]
        simp [pend]
      · have e3 : stp he l = ([he], (l : Int)) := by
          unfold stp
          rw [if_neg hz, mark_not hl he]
          simp only [hl, if_true]
        rw [e3]
        simp only [e2]
        rw [List.append_assoc, this]
        simp [pend, hz]
/-- A step of the program's, in its numbers. -/
theorem gt_stp {he : Int} {v : Nat} (h9 : ¬ v = 65533) : ∃ k a b h : Int, gtV he v = vgV 0 1 k a b h ∧ ((k = 0 ∧ stp he v = ([], h)) ∨ (k = 1 ∧ stp he v = ([a], h)) ∨ (k = 2 ∧ stp he v = ([a, b], h))) := by
  unfold gtV stp
  rw [if_neg h9]
  by_cases hz : he = 0
  · rw [if_pos hz, if_pos hz]
    by_cases hh : hoR (v : Int) = true
    · rw [if_pos hh, if_pos hh]
      exact ⟨0, 0, 0, _, rfl, .inl ⟨rfl, rfl⟩⟩
    · rw [if_neg hh, if_neg hh]
      exact ⟨1, _, 0, 0, rfl, .inr (.inl ⟨rfl, rfl⟩)⟩
  · rw [if_neg hz, if_neg hz]
    cases hR : coR he (v : Int) with
    | some u => exact ⟨1, _, 0, 0, rfl, .inr (.inl ⟨rfl, rfl⟩)⟩
    | none =>
      simp only
      by_cases hh : hoR (v : Int) = true
      · rw [if_pos hh, if_pos hh]
        exact ⟨1, he, 0, _, rfl, .inr (.inl ⟨rfl, rfl⟩)⟩
      · rw [if_neg hh, if_neg hh]
        exact ⟨2, he, _, 0, rfl, .inr (.inr ⟨rfl, rfl⟩)⟩
end Go.Proofs.Ytfehmbicolllkaa.C13
