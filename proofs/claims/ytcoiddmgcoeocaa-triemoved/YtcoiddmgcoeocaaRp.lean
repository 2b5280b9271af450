/- Chapter 6 in plain functions, with no program in sight. -/
import Derived.Test.YtcoiddmgcoeocaaEl
import Derived.Test.YtcoiddmgcoeocaaPlain
namespace Go.Proofs.Ytcoiddmgcoeocaa.Rn
open Go.Proofs.Ytcoiddmgcoeocaa.El Go.Proofs.Ytcoiddmgcoeocaa.Ucs

def rightC (c : Int) : Bool := decide (0 ≤ c) && decide (c ≤ 16777215)
def alone (u n : Int) : Bool := scB u && (scB (u + n) && (decide (u < 55296) == decide (u + n < 55296)))
def rightR (r : Rg) : Bool := rightC r.1 && (rightC r.2.1 && (decide (r.1 ≤ r.2.1) && alone r.2.2 (r.2.1 - r.1)))
theorem rightC_iff {c : Int} : rightC c = true ↔ 0 ≤ c ∧ c ≤ 16777215 := by simp [rightC]
theorem alone_iff {u n : Int} : alone u n = true ↔ (0 ≤ u ∧ u ≤ 1114111 ∧ (u < 55296 ∨ 57343 < u)) ∧ (0 ≤ u + n ∧ u + n ≤ 1114111 ∧ (u + n < 55296 ∨ 57343 < u + n)) ∧ (u < 55296 ↔ u + n < 55296) := by
  simp [alone, scB_iff]
theorem rightR_iff {f t a : Int} : rightR (f, t, a) = true ↔ (0 ≤ f ∧ f ≤ t ∧ t ≤ 16777215) ∧ (0 ≤ a ∧ a + (t - f) ≤ 1114111 ∧ (57343 < a ∨ a + (t - f) < 55296)) := by
  simp only [rightR, Bool.and_eq_true, rightC_iff, decide_eq_true_eq, alone_iff]
  constructor
  · rintro ⟨h1, h2, h3, h4, h5, h6⟩
    refine ⟨⟨?_, ?_, ?_⟩, ?_, ?_, ?_⟩ <;> omega
  · rintro ⟨⟨h1, h2, h3⟩, h4, h5, h6⟩
    refine ⟨⟨?_, ?_⟩, ⟨?_, ?_⟩, ?_, ⟨?_, ?_, ?_⟩, ⟨?_, ?_, ?_⟩, ?_⟩ <;> omega

def okFrom : Int → List Rg → Bool
  | _, [] => true
  | b, r :: L => rightR r && (decide (b < r.1) && okFrom r.2.1 L)
def total : List Rg → Int
  | [] => 0
  | r :: L => (r.2.1 - r.1 + 1) + total L
def checkR (L : List Rg) : Int := if 65536 < L.length then 8 else if okFrom (-1) L = true then (if 65536 < total L then 8 else 0) else 3
theorem okFrom_cons {b f t a : Int} {L : List Rg} : okFrom b ((f, t, a) :: L) = true ↔ rightR (f, t, a) = true ∧ b < f ∧ okFrom t L = true := by simp [okFrom]
theorem total_nonneg {b : Int} {L : List Rg} (h : okFrom b L = true) : (L.length : Int) ≤ total L := by
  induction L generalizing b with
  | nil => simp [total]
  | cons r L ih =>
    obtain ⟨f, t, a⟩ := r
    obtain ⟨h1, h2, h3⟩ := okFrom_cons.1 h
    have := rightR_iff.1 h1
    have := ih h3
    simp only [total, List.length_cons]
    omega
theorem checkR_ok {L : List Rg} : checkR L = 0 ↔ L.length ≤ 65536 ∧ okFrom (-1) L = true ∧ total L ≤ 65536 := by
  unfold checkR
  split
  · constructor <;> intro h <;> omega
  · split
    · split
      · constructor <;> intro h <;> omega
      · constructor <;> intro h
        · exact ⟨by omega, by assumption, by omega⟩
        · rfl
    · constructor <;> intro h
      · omega
      · exact absurd h.2.1 (by assumption)

def run (c u : Int) : Nat → List Pr
  | 0 => []
  | n + 1 => (c, u) :: run (c + 1) (u + 1) n
theorem run_length (c u : Int) (n : Nat) : (run c u n).length = n := by
  induction n generalizing c u with
  | zero => rfl
  | succ n ih => simp [run, ih]
theorem run_add (c u : Int) (m n : Nat) : run c u (m + n) = run c u m ++ run (c + m) (u + m) n := by
  induction m generalizing c u with
  | zero => simp [run]
  | succ m ih =>
    rw [Nat.add_right_comm]
    show (c, u) :: run (c + 1) (u + 1) (m + n) = (c, u) :: (run (c + 1) (u + 1) m ++ _)
    rw [ih, show c + 1 + (m : Int) = c + ((m + 1 : Nat) : Int) by omega, show u + 1 + (m : Int) = u + ((m + 1 : Nat) : Int) by omega]
def cnt (r : Rg) : Nat := (r.2.1 - r.1 + 1).toNat
def pairsOf : List Rg → List Pr
  | [] => []
  | r :: L => run r.1 r.2.2 (cnt r) ++ pairsOf L
theorem pairsOf_append (L M : List Rg) : pairsOf (L ++ M) = pairsOf L ++ pairsOf M := by
  induction L with
  | nil => rfl
  | cons r L ih => simp [pairsOf, ih]
theorem pairsOf_length {b : Int} {L : List Rg} (h : okFrom b L = true) : ((pairsOf L).length : Int) = total L := by
  induction L generalizing b with
  | nil => rfl
  | cons r L ih =>
    obtain ⟨f, t, a⟩ := r
    obtain ⟨h1, h2, h3⟩ := okFrom_cons.1 h
    have := rightR_iff.1 h1
    have := ih h3
    simp only [pairsOf, total, List.length_append, run_length, cnt]
    omega
def pairsR (L : List Rg) : List Pr := if checkR L = 0 then pairsOf L else []

def okP : Int → List Pr → Bool
  | _, [] => true
  | b, p :: L => rightC p.1 && (decide (b < p.1) && (scB p.2 && okP p.1 L))
theorem okP_cons {b c u : Int} {L : List Pr} : okP b ((c, u) :: L) = true ↔ (0 ≤ c ∧ c ≤ 16777215) ∧ b < c ∧ scB u = true ∧ okP c L = true := by simp [okP, rightC_iff]
def rightE (L : List Pr) : Int := if 65536 < L.length then 8 else if okP (-1) L = true then 0 else 3
theorem rightE_ok {L : List Pr} : rightE L = 0 ↔ L.length ≤ 65536 ∧ okP (-1) L = true := by
  unfold rightE
  split
  · constructor <;> intro h <;> omega
  · split
    · constructor <;> intro h
      · exact ⟨by omega, by assumption⟩
      · rfl
    · constructor <;> intro h
      · omega
      · exact absurd h.2 (by assumption)
def packGo (f t a : Int) : List Pr → List Rg
  | [] => [(f, t, a)]
  | q :: L => if q.1 = t + 1 ∧ q.2 = a + (t - f) + 1 then packGo f q.1 a L else (f, t, a) :: packGo q.1 q.1 q.2 L
def packOf : List Pr → List Rg
  | [] => []
  | p :: L => packGo p.1 p.1 p.2 L
def packR (L : List Pr) : List Rg := if rightE L = 0 then packOf L else []

theorem packGo_pairs (f t a : Int) (h : f ≤ t) (L : List Pr) : pairsOf (packGo f t a L) = run f a (t - f + 1).toNat ++ L := by
  induction L generalizing f t a with
  | nil => simp [packGo, pairsOf, cnt]
  | cons q L ih =>
    obtain ⟨c, u⟩ := q
    unfold packGo
    split
    · rename_i hq
      simp only at hq
      obtain ⟨rfl, rfl⟩ := hq
      rw [ih f (t + 1) a (by omega), show (t + 1 - f + 1).toNat = (t - f + 1).toNat + 1 by omega, run_add]
      simp only [run, List.append_assoc, List.cons_append, List.nil_append]
      rw [show f + ((t - f + 1).toNat : Int) = t + 1 by omega, show a + ((t - f + 1).toNat : Int) = a + (t - f) + 1 by omega]
    · show pairsOf ((f, t, a) :: packGo c c u L) = _
      rw [pairsOf, ih c c u (by omega)]
      simp [run, cnt]
theorem packOf_pairs (L : List Pr) : pairsOf (packOf L) = L := by
  cases L with
  | nil => rfl
  | cons p L =>
    show pairsOf (packGo p.1 p.1 p.2 L) = _
    rw [packGo_pairs _ _ _ (by omega)]
    simp [run]
theorem packGo_ok (b f t a : Int) (L : List Pr) (hr : rightR (f, t, a) = true) (hb : b < f) (h : okP t L = true) : okFrom b (packGo f t a L) = true := by
  induction L generalizing b f t a with
  | nil => simp [packGo, okFrom, hr, hb]
  | cons q L ih =>
    obtain ⟨c, u⟩ := q
    obtain ⟨h1, h2, h3, h4⟩ := okP_cons.1 h
    have h5 := scB_iff.1 h3
    have h6 := rightR_iff.1 hr
    unfold packGo
    split
    · rename_i hq
      simp only at hq
      obtain ⟨rfl, rfl⟩ := hq
      exact ih b f (t + 1) a (rightR_iff.2 (by omega)) hb h4
    · refine okFrom_cons.2 ⟨hr, hb, ih t c c u (rightR_iff.2 (by omega)) h2 h4⟩
theorem packOf_ok {L : List Pr} (h : okP (-1) L = true) : okFrom (-1) (packOf L) = true := by
  cases L with
  | nil => rfl
  | cons p L =>
    obtain ⟨c, u⟩ := p
    obtain ⟨h1, h2, h3, h4⟩ := okP_cons.1 h
    have h5 := scB_iff.1 h3
    exact packGo_ok (-1) c c u L (rightR_iff.2 (by omega)) h2 h4
theorem packGo_length (f t a : Int) (L : List Pr) : (packGo f t a L).length ≤ 1 + L.length := by
  induction L generalizing f t a with
  | nil => simp [packGo]
  | cons q L ih =>
    unfold packGo
    split
    · have := ih f q.1 a; simp; omega
    · have := ih q.1 q.1 q.2; simp; omega
theorem packOf_length (L : List Pr) : (packOf L).length ≤ L.length := by
  cases L with
  | nil => simp [packOf]
  | cons p L => have := packGo_length p.1 p.1 p.2 L; show (packGo p.1 p.1 p.2 L).length ≤ _; simp; omega
theorem packOf_check {L : List Pr} (h : rightE L = 0) : checkR (packOf L) = 0 := by
  obtain ⟨h1, h2⟩ := rightE_ok.1 h
  have h3 := packOf_ok h2
  have h4 := pairsOf_length h3
  rw [packOf_pairs] at h4
  have h5 := packOf_length L
  exact checkR_ok.2 ⟨by omega, h3, by omega⟩

/-- The fewest ranges: a range's own pairs lie in one. -/
theorem packGo_run (f t a : Int) (n : Nat) (L : List Pr) : packGo f t a (run (t + 1) (a + (t - f) + 1) n ++ L) = packGo f (t + n) a L := by
  induction n generalizing t with
  | zero => simp [run]
  | succ n ih =>
    show packGo f t a ((t + 1, a + (t - f) + 1) :: (run (t + 1 + 1) (a + (t - f) + 1 + 1) n ++ L)) = _
    have e0 : ∀ M, packGo f t a ((t + 1, a + (t - f) + 1) :: M) = packGo f (t + 1) a M := fun M => by rw [packGo]; exact if_pos ⟨rfl, rfl⟩
    rw [e0]
    have := ih (t + 1)
    rw [show a + (t + 1 - f) + 1 = a + (t - f) + 1 + 1 by omega] at this
    rw [this, show t + 1 + (n : Int) = t + ((n + 1 : Nat) : Int) by omega]
theorem packGo_le (f t a : Int) (L : List Rg) (b : Int) (h : okFrom b L = true) : (packGo f t a (pairsOf L)).length ≤ 1 + L.length := by
  induction L generalizing f t a b with
  | nil => simp [pairsOf, packGo]
  | cons r L ih =>
    obtain ⟨f', t', a'⟩ := r
    obtain ⟨h1, h2, h3⟩ := okFrom_cons.1 h
    have h4 := rightR_iff.1 h1
    obtain ⟨n, hn⟩ : ∃ n : Nat, t' = f' + n := ⟨(t' - f').toNat, by omega⟩
    subst hn
    have e : cnt (f', f' + (n : Int), a') = n + 1 := by simp only [cnt]; omega
    simp only [pairsOf, e, run, List.cons_append]
    unfold packGo
    simp only
    split
    · rename_i hq
      obtain ⟨e1, e2⟩ := hq
      have := packGo_run f f' a n (pairsOf L)
      rw [show a + (f' - f) + 1 = a' + 1 by omega] at this
      rw [this]
      have := ih f (f' + n) a _ h3
      simp; omega
    · have := packGo_run f' f' a' n (pairsOf L)
      rw [show a' + (f' - f') + 1 = a' + 1 by omega] at this
      rw [List.length_cons, this]
      have := ih f' (f' + n) a' _ h3
      simp; omega
theorem packOf_le {L : List Rg} {b : Int} (h : okFrom b L = true) : (packOf (pairsOf L)).length ≤ L.length := by
  cases L with
  | nil => simp [pairsOf, packOf]
  | cons r L =>
    obtain ⟨f', t', a'⟩ := r
    obtain ⟨h1, h2, h3⟩ := okFrom_cons.1 h
    have h4 := rightR_iff.1 h1
    obtain ⟨n, hn⟩ : ∃ n : Nat, t' = f' + n := ⟨(t' - f').toNat, by omega⟩
    subst hn
    have e : cnt (f', f' + (n : Int), a') = n + 1 := by simp only [cnt]; omega
    simp only [pairsOf, e, run, List.cons_append, packOf]
    have := packGo_run f' f' a' n (pairsOf L)
    rw [show a' + (f' - f') + 1 = a' + 1 by omega] at this
    rw [this]
    have := packGo_le f' (f' + n) a' L _ h3
    simp; omega
theorem run_ok (b c u : Int) (n : Nat) (L : List Pr) (hc : 0 ≤ c ∧ c + n ≤ 16777216) (hb : b < c) (hu : 0 ≤ u ∧ u + n ≤ 1114112 ∧ (57343 < u ∨ u + n ≤ 55296)) (hL : okP (if n = 0 then b else c + n - 1) L = true) : okP b (run c u n ++ L) = true := by
  induction n generalizing b c u with
  | zero => simpa [run] using hL
  | succ n ih =>
    show okP b ((c, u) :: (run (c + 1) (u + 1) n ++ L)) = true
    refine okP_cons.2 ⟨by omega, hb, scB_iff.2 (by omega), ih c (c + 1) (u + 1) (by omega) (by omega) (by omega) ?_⟩
    by_cases h0 : n = 0
    · subst h0; simpa using hL
    · rw [if_neg (by omega)] at hL
      rw [if_neg h0, show c + 1 + (n : Int) - 1 = c + ((n + 1 : Nat) : Int) - 1 by omega]
      exact hL
theorem pairsOf_ok {b : Int} {L : List Rg} (h : okFrom b L = true) : okP b (pairsOf L) = true := by
  induction L generalizing b with
  | nil => rfl
  | cons r L ih =>
    obtain ⟨f, t, a⟩ := r
    obtain ⟨h1, h2, h3⟩ := okFrom_cons.1 h
    have h4 := rightR_iff.1 h1
    have e : (cnt (f, t, a) : Int) = t - f + 1 := by simp only [cnt]; omega
    simp only [pairsOf]
    refine run_ok b f a _ _ (by rw [e]; omega) h2 (by rw [e]; omega) ?_
    rw [if_neg (by omega), e, show f + (t - f + 1) - 1 = t by omega]
    exact ih h3
theorem pairsOf_right {L : List Rg} (h : checkR L = 0) : rightE (pairsOf L) = 0 := by
  obtain ⟨h1, h2, h3⟩ := checkR_ok.1 h
  have h4 := pairsOf_length h2
  exact rightE_ok.2 ⟨by omega, pairsOf_ok h2⟩

/-- The scalar of a code, the code of a scalar: by ranges, and by pairs. -/
def scalR : List Rg → Int → Option Int
  | [], _ => none
  | r :: L, c => if r.2.1 < c then scalR L c else if r.1 ≤ c then some (r.2.2 + (c - r.1)) else none
def codeR : List Rg → Int → Option Int
  | [], _ => none
  | r :: L, u => if r.2.2 ≤ u ∧ u ≤ r.2.2 + (r.2.1 - r.1) then some (r.1 + (u - r.2.2)) else codeR L u
def pS : List Pr → Int → Option Int
  | [], _ => none
  | p :: L, c => if p.1 = c then some p.2 else pS L c
def pC : List Pr → Int → Option Int
  | [], _ => none
  | p :: L, u => if p.2 = u then some p.1 else pC L u
theorem pS_run (c u : Int) (n : Nat) (L : List Pr) (x : Int) : pS (run c u n ++ L) x = if c ≤ x ∧ x < c + n then some (u + (x - c)) else pS L x := by
  induction n generalizing c u with
  | zero => rw [if_neg (by omega)]; rfl
  | succ n ih =>
    show (if c = x then some u else pS (run (c + 1) (u + 1) n ++ L) x) = _
    rw [ih]
    by_cases h : c = x
    · subst h; rw [if_pos rfl, if_pos (by omega)]; simp
    · rw [if_neg h]
      by_cases k : c + 1 ≤ x ∧ x < c + 1 + n
      · rw [if_pos k, if_pos (by omega)]; congr 1; omega
      · rw [if_neg k, if_neg (by omega)]
theorem pC_run (c u : Int) (n : Nat) (L : List Pr) (x : Int) : pC (run c u n ++ L) x = if u ≤ x ∧ x < u + n then some (c + (x - u)) else pC L x := by
  induction n generalizing c u with
  | zero => rw [if_neg (by omega)]; rfl
  | succ n ih =>
    show (if u = x then some c else pC (run (c + 1) (u + 1) n ++ L) x) = _
    rw [ih]
    by_cases h : u = x
    · subst h; rw [if_pos rfl, if_pos (by omega)]; simp
    · rw [if_neg h]
      by_cases k : u + 1 ≤ x ∧ x < u + 1 + n
      · rw [if_pos k, if_pos (by omega)]; congr 1; omega
      · rw [if_neg k, if_neg (by omega)]
theorem pS_low {b : Int} {L : List Pr} (h : okP b L = true) {x : Int} (hx : x ≤ b) : pS L x = none := by
  induction L generalizing b with
  | nil => rfl
  | cons p L ih =>
    obtain ⟨c, u⟩ := p
    obtain ⟨_, h2, _, h4⟩ := okP_cons.1 h
    show (if c = x then _ else _) = _
    rw [if_neg (by omega)]
    exact ih h4 (by omega)
theorem scalR_eq {b : Int} {L : List Rg} (h : okFrom b L = true) (x : Int) : scalR L x = pS (pairsOf L) x := by
  induction L generalizing b with
  | nil => rfl
  | cons r L ih =>
    obtain ⟨f, t, a⟩ := r
    obtain ⟨h1, h2, h3⟩ := okFrom_cons.1 h
    have h4 := rightR_iff.1 h1
    have e : (cnt (f, t, a) : Int) = t - f + 1 := by simp only [cnt]; omega
    simp only [pairsOf, scalR]
    rw [pS_run, e]
    by_cases k : t < x
    · rw [if_pos k, if_neg (by omega)]; exact ih h3
    · rw [if_neg k]
      by_cases k2 : f ≤ x
      · rw [if_pos k2, if_pos (by omega)]
      · rw [if_neg k2, if_neg (by omega)]
        exact (pS_low (pairsOf_ok h3) (by omega)).symm
theorem codeR_eq {b : Int} {L : List Rg} (h : okFrom b L = true) (x : Int) : codeR L x = pC (pairsOf L) x := by
  induction L generalizing b with
  | nil => rfl
  | cons r L ih =>
    obtain ⟨f, t, a⟩ := r
    obtain ⟨h1, h2, h3⟩ := okFrom_cons.1 h
    have h4 := rightR_iff.1 h1
    have e : (cnt (f, t, a) : Int) = t - f + 1 := by simp only [cnt]; omega
    simp only [pairsOf, codeR]
    rw [pC_run, e, ih h3]
    by_cases k : a ≤ x ∧ x ≤ a + (t - f)
    · rw [if_pos k, if_pos (by omega)]
    · rw [if_neg k, if_neg (by omega)]
theorem pS_at {b : Int} {L : List Pr} (h : okP b L = true) (i : Nat) (hi : i < L.length) : pS L L[i].1 = some L[i].2 := by
  induction L generalizing b i with
  | nil => simp at hi
  | cons p L ih =>
    obtain ⟨c, u⟩ := p
    obtain ⟨_, h2, _, h4⟩ := okP_cons.1 h
    match i with
    | 0 => simp [pS]
    | i + 1 =>
      have hlow : ∀ (M : List Pr) (d : Int), okP d M = true → ∀ j (hj : j < M.length), d < M[j].1 := by
        intro M
        induction M with
        | nil => intro d _ j hj; simp at hj
        | cons q M ihM =>
          obtain ⟨c', u'⟩ := q
          intro d hd j hj
          obtain ⟨_, g2, _, g4⟩ := okP_cons.1 hd
          match j with
          | 0 => exact g2
          | j + 1 => have := ihM c' g4 j (by simpa using hj); simp; omega
      have hi' : i < L.length := by simpa using hi
      have := hlow L c h4 i hi'
      show (if c = L[i].1 then _ else pS L L[i].1) = some L[i].2
      rw [if_neg (by omega)]
      exact ih h4 i hi'
theorem pC_at {b : Int} {L : List Pr} (h : okP b L = true) (i : Nat) (hi : i < L.length) : ∃ c, pC L L[i].2 = some c ∧ b < c ∧ c ≤ L[i].1 ∧ pS L c = some L[i].2 := by
  induction L generalizing b i with
  | nil => simp at hi
  | cons p L ih =>
    obtain ⟨c, u⟩ := p
    obtain ⟨_, h2, _, h4⟩ := okP_cons.1 h
    match i with
    | 0 => exact ⟨c, by simp [pC], h2, by simp, by simp [pS]⟩
    | i + 1 =>
      have hi' : i < L.length := by simpa using hi
      obtain ⟨d, e1, e2, e3, e4⟩ := ih h4 i hi'
      by_cases k : u = L[i].2
      · refine ⟨c, by simp [pC, k], h2, ?_, by simp [pS, k]⟩
        show c ≤ L[i].1
        omega
      · refine ⟨d, ?_, by omega, e3, ?_⟩
        · show (if u = L[i].2 then _ else pC L L[i].2) = _
          rw [if_neg k]; exact e1
        · show (if c = d then _ else pS L d) = _
          rw [if_neg (by omega)]; exact e4
end Go.Proofs.Ytcoiddmgcoeocaa.Rn
