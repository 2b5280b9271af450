/- Layer 21, plain: what Has, Get, Set and End answer; what is written is read again. -/
import Derived.Test.YtdobjijebalkkaaRD14
import Derived.Test.YtdobjijebalkkaaRD16
import Derived.Test.YtdobjijebalkkaaRJ14
import Derived.Test.YtdobjijebalkkaaGs
namespace Go.Proofs.Ytdobjijebalkkaa.C21
open Go.RowKit Go.Proofs.Ytdobjijebalkkaa.Mem Go.Proofs.Ytdobjijebalkkaa.Sp
set_option linter.unusedVariables false

theorem gt {a b c : World} {row : Option Nat} (h : a.grownBy b row) (k : b.grownBy c row) : a.grownBy c row := grownBy_trans h k
def has (k : Int) : Bool := decide (k = 83 ∨ k = 88)
/-- The Mode; 3: a state that is none of the kind. -/
def mo (md bi ac he : Int) : Nat := if (0 ≤ md ∧ md ≤ 2) ∧ bi = 0 ∧ ac = 0 ∧ he = 0 then md.toNat else 3
theorem mo_is (m : Nat) (h : m < 3) : mo (m : Int) 0 0 0 = m := by
  unfold mo
  rw [if_pos ⟨by omega, rfl, rfl, rfl⟩]
  omega
theorem mo_le (md bi ac he : Int) : mo md bi ac he ≤ 3 := by
  unfold mo
  split <;> omega
theorem mo_fit {md bi ac he : Int} {m : Nat} (h : mo md bi ac he = m) (hm : m < 3) : md = (m : Int) ∧ bi = 0 ∧ ac = 0 ∧ he = 0 := by
  unfold mo at h
  by_cases hz : (0 ≤ md ∧ md ≤ 2) ∧ bi = 0 ∧ ac = 0 ∧ he = 0
  · rw [if_pos hz] at h
    exact ⟨by omega, hz.2⟩
  · rw [if_neg hz] at h
    omega
/-- Does a text begin with another one? -/
def bgn (S B : List UInt8) : Bool := decide (B.length ≤ S.length ∧ S.take B.length = B)
def sq (i : Nat) : List UInt8 := if i = 0 then [27, 40, 66] else if i = 1 then [27, 40, 74] else if i = 2 then [27, 36, 64] else [27, 36, 66]
def sqM (i : Nat) : Nat := if i = 0 then 0 else if i = 1 then 1 else 2
def hd : List UInt8 := [27, 36, 41, 67]
theorem sq_len (i : Nat) : (sq i).length = 3 := by unfold sq; repeat' split
                                                   all_goals rfl
theorem sq_head (i : Nat) : ∃ t, sq i = 27 :: t := by unfold sq; repeat' split
                                                      all_goals exact ⟨_, rfl⟩
/-- The first sequence that stands at the front, or might (none). -/
def jF (L : List UInt8) : List Nat → Option (Option Nat)
  | [] => none
  | i :: r => if bgn L (sq i) = true then some (some (sqM i)) else if L.length < 3 ∧ bgn (sq i) L = true then some none else jF L r
def pr (k : Int) (m : Nat) (b : Nat) (r : List UInt8) : Int × Int × Int × Int × Int := match r with
  | [] => (1, 0, 0, 0, 0)
  | c :: _ => if c.toNat < 33 ∨ 126 < c.toNat then (10, 1, 0, 0, (m : Int)) else match (if k = 88 then C16.scP ((b : Int) - 32) ((c.toNat : Int) - 32) else C14.scP ((b : Int) - 32) ((c.toNat : Int) - 32)) with
    | none => (10, 2, 0, 0, (m : Int))
    | some n => (0, 2, 1, (n : Int), (m : Int))
def jC (m : Nat) (b : Nat) (r : List UInt8) : Int × Int × Int × Int × Int :=
  if b = 27 ∨ 128 ≤ b then (10, 1, 0, 0, (m : Int)) else if m = 1 then (0, 1, 1, (((C14.haR b).getD 0 : Nat) : Int), 1) else if m = 0 ∨ b ≤ 32 ∨ b = 127 then (0, 1, 1, (b : Int), (m : Int)) else pr 83 m b r
def gJ (m : Nat) (L : List UInt8) : Int × Int × Int × Int × Int := match L with
  | [] => (1, 0, 0, 0, 0)
  | b :: r => match jF (b :: r) [0, 1, 2, 3] with
    | some (some md) => (0, 3, 0, 0, (md : Int))
    | some none => (1, 0, 0, 0, 0)
    | none => jC m b.toNat r
def kC (m : Nat) (b : Nat) (r : List UInt8) : Int × Int × Int × Int × Int :=
  if b = 27 ∨ 128 ≤ b ∨ (m = 0 ∧ (b = 14 ∨ b = 15)) then (10, 1, 0, 0, (m : Int)) else if m = 0 then (0, 1, 1, (b : Int), 1) else if b = 14 then (0, 1, 0, 0, 2) else if b = 15 then (0, 1, 0, 0, 1) else if m = 1 ∨ b ≤ 32 ∨ b = 127 then (0, 1, 1, (b : Int), (m : Int)) else pr 88 m b r
def gK (m : Nat) (L : List UInt8) : Int × Int × Int × Int × Int := match L with
  | [] => (1, 0, 0, 0, 0)
  | b :: r => if bgn (b :: r) hd = true then (0, 4, 0, 0, (max 1 m : Nat)) else if (b :: r).length < 4 ∧ bgn hd (b :: r) = true then (1, 0, 0, 0, 0) else kC m b.toNat r
/-- What Get answers: the error, N, K, A, the Mode. -/
def gE (k : Int) (m : Nat) (L : List UInt8) : Int × Int × Int × Int × Int := if has k = false then (5, 0, 0, 0, 0) else if 3 ≤ m then (7, 0, 0, 0, 0) else if k = 83 then gJ m L else gK m L
def gotV (p : Int × Int × Int × Int × Int) : Value := .agg (gM p.1 p.2.1 p.2.2.1 p.2.2.2.1 p.2.2.2.2)
/-- What End answers: the bytes, the Mode, the error. -/
def enB (k : Int) (m : Nat) : List UInt8 := if has k = false ∨ 3 ≤ m then [] else if k = 83 then (if m = 0 then [] else [27, 40, 66]) else if m = 2 then [15] else []
def enM (k : Int) (m : Nat) : Nat := if has k = false ∨ 3 ≤ m then 0 else if k = 83 then 0 else if m = 2 then 1 else m
def enE (k : Int) (m : Nat) : Int := if has k = false then 5 else if 3 ≤ m then 7 else 0
/-- What leads to a Mode. -/
def ld (m mode : Nat) (s : List UInt8) : List UInt8 := if m ≠ mode then s else []
def sJ (m : Nat) (u : Int) : Int × List UInt8 × Int := if 0 ≤ u ∧ u < 128 then (0, ld m 0 [27, 40, 66] ++ [b8 u.toNat], 0) else if u = 165 then (0, ld m 1 [27, 40, 74] ++ [b8 92], 1) else if u = 8254 then (0, ld m 1 [27, 40, 74] ++ [b8 126], 1) else match C14.plT u with
  | (r, c, true) => (0, ld m 2 [27, 36, 66] ++ [b8 (r + 32), b8 (c + 32)], 2)
  | (_, _, false) => (11, [], 0)
def hB (m : Nat) : List UInt8 := if m = 0 then hd else []
def hM (m : Nat) : Nat := if m = 0 then 1 else m
def sK (m : Nat) (u : Int) : Int × List UInt8 × Int := if 0 ≤ u ∧ u < 128 then (0, hB m ++ (ld (hM m) 1 [15] ++ [b8 u.toNat]), 1) else match C16.plT u with
  | (r, c, true) => (0, hB m ++ (ld (hM m) 2 [14] ++ [b8 (r + 32), b8 (c + 32)]), 2)
  | (_, _, false) => (11, [], 0)
def sE (k : Int) (m : Nat) (u : Int) : Int × List UInt8 × Int := if has k = false then (5, [], 0) else if 3 ≤ m then (7, [], 0) else if u = 27 ∨ (k = 88 ∧ (u = 14 ∨ u = 15)) then (11, [], 0) else if k = 88 then sK m u else sJ m u
def putV (p : Int × List UInt8 × Int) : Value := .agg (pM p.1 (str p.2.1) p.2.2)
theorem has_yes {k : Int} (h : has k = true) : k = 83 ∨ k = 88 := of_decide_eq_true h

/-- A step cut short waits for more. -/
def SCut (G : Nat → List UInt8 → Int × Int × Int × Int × Int) : Nat → List Stp → Prop
  | _, [] => True
  | m, s :: S => (∀ j, 1 ≤ j → j < s.1.length → G m (s.1.take j) = (1, 0, 0, 0, 0)) ∧ SCut G s.2.2 S
theorem cut_app {G : Nat → List UInt8 → Int × Int × Int × Int × Int} {m : Nat} {S T : List Stp} (h1 : SCut G m S) (h2 : SCut G (lastM m S) T) : SCut G m (S ++ T) := by
  induction S generalizing m with
  | nil => exact h2
  | cons s S ih => exact ⟨h1.1, ih h1.2 h2⟩
/-- All at once: read again, and cut. -/
def Ok (k : Int) (m : Nat) (S : List Stp) : Prop := SGood (gE k) m S ∧ SCut (gE k) m S
theorem ok_nil (k : Int) (m : Nat) : Ok k m [] := ⟨trivial, trivial⟩
theorem ok_app {k : Int} {m : Nat} {S T : List Stp} (h1 : Ok k m S) (h2 : Ok k (lastM m S) T) : Ok k m (S ++ T) := ⟨good_app h1.1 h2.1, cut_app h1.2 h2.2⟩
theorem ok_one {k : Int} {m : Nat} {s : Stp} (h1 : 1 ≤ s.1.length) (h2 : s.1.length ≤ 4) (h3 : ∀ b ∈ s.1, b.toNat < 128) (h4 : ∀ M, gE k m (s.1 ++ M) = tells s) (h5 : ∀ j, 1 ≤ j → j < s.1.length → gE k m (s.1.take j) = (1, 0, 0, 0, 0)) : Ok k m [s] := ⟨good_one h1 h2 h3 h4, ⟨h5, trivial⟩⟩
theorem gE_jp {m : Nat} (h : m < 3) (L : List UInt8) : gE 83 m L = gJ m L := by
  unfold gE
  rw [show has 83 = true from rfl, if_neg (by simp), if_neg (by omega), if_pos rfl]
theorem gE_kr {m : Nat} (h : m < 3) (L : List UInt8) : gE 88 m L = gK m L := by
  unfold gE
  rw [show has 88 = true from rfl, if_neg (by simp), if_neg (by omega), if_neg (by omega)]
theorem bgn_ne {b c : UInt8} {r t : List UInt8} (h : b ≠ c) : bgn (b :: r) (c :: t) = false := by
  unfold bgn
  refine decide_eq_false (fun h2 => ?_)
  have := h2.2
  simp only [List.length_cons, List.take_succ_cons, List.cons.injEq] at this
  exact h this.1
theorem jF_none {b : UInt8} (h : b ≠ 27) (r : List UInt8) (l : List Nat) : jF (b :: r) l = none := by
  induction l with
  | nil => rfl
  | cons i l ih =>
    obtain ⟨t, ht⟩ := sq_head i
    unfold jF
    rw [ht, bgn_ne h, bgn_ne (fun e => h e.symm), if_neg (by simp), if_neg (by simp)]
    exact ih
theorem gJ_low {b : UInt8} (h : b ≠ 27) (m : Nat) (r : List UInt8) : gJ m (b :: r) = jC m b.toNat r := by
  unfold gJ
  simp only [jF_none h]
theorem gK_low {b : UInt8} (h : b ≠ 27) (m : Nat) (r : List UInt8) : gK m (b :: r) = kC m b.toNat r := by
  unfold gK hd
  simp only
  rw [bgn_ne h, bgn_ne (fun e => h e.symm), if_neg (by simp), if_neg (by simp)]
theorem ne27 {b : UInt8} (h : b.toNat ≠ 27) : b ≠ 27 := fun e => h (by rw [e]; rfl)
theorem bgn_app (A M : List UInt8) : bgn (A ++ M) A = true := by
  unfold bgn
  refine decide_eq_true ⟨by simp, ?_⟩
  simp
theorem gJ_sq (m i : Nat) (hi : i < 4) (M : List UInt8) : gJ m (sq i ++ M) = (0, 3, 0, 0, (sqM i : Int)) := by
  have h3 : ¬ (sq i ++ M).length < 3 := by rw [List.length_append, sq_len]; omega
  have key : jF (sq i ++ M) [0, 1, 2, 3] = some (some (sqM i)) := by
    have hb : ∀ j, bgn (sq i ++ M) (sq j) = decide (sq i = sq j) := fun j => by
      unfold bgn
      rw [sq_len, List.take_append_of_le_length (by rw [sq_len]; omega), List.take_of_length_le (by rw [sq_len]; omega)]
      refine decide_eq_decide.2 ⟨fun h => h.2, fun h => ⟨by rw [List.length_append, sq_len]; omega, h⟩⟩
    simp only [jF, hb, h3, false_and, if_false]
    match i, hi with
    | 0, _ => rfl
    | 1, _ => rfl
    | 2, _ => rfl
    | 3, _ => rfl
  obtain ⟨t, ht⟩ := sq_head i
  rw [ht] at key ⊢
  unfold gJ
  simp only [List.cons_append] at key ⊢
  rw [key]
theorem gJ_sqc (m i j : Nat) (hi : i < 4) (h1 : 1 ≤ j) (h2 : j < 3) : gJ m ((sq i).take j) = (1, 0, 0, 0, 0) := by
  match i, hi, j, h1, h2 with
  | 0, _, 1, _, _ => rfl
  | 0, _, 2, _, _ => rfl
  | 1, _, 1, _, _ => rfl
  | 1, _, 2, _, _ => rfl
  | 2, _, 1, _, _ => rfl
  | 2, _, 2, _, _ => rfl
  | 3, _, 1, _, _ => rfl
  | 3, _, 2, _, _ => rfl
theorem sq_ok (m i : Nat) (hm : m < 3) (hi : i < 4) : Ok 83 m [(sq i, none, sqM i)] := by
  refine ok_one (by show 1 ≤ (sq i).length; rw [sq_len]; omega) (by show (sq i).length ≤ 4; rw [sq_len]; omega) ?_ (fun M => ?_) (fun j h1 h2 => ?_)
  · show ∀ b ∈ sq i, b.toNat < 128
    unfold sq
    repeat' split
    all_goals decide
  · rw [gE_jp hm]
    show gJ m (sq i ++ M) = _
    rw [gJ_sq m i hi M]
    unfold tells
    simp only [sq_len]
    rfl
  · rw [gE_jp hm]
    exact gJ_sqc m i j hi h1 (by have : j < (sq i).length := h2; rwa [sq_len] at this)
theorem hd_ok : Ok 88 0 [(hd, none, 1)] := by
  refine ok_one (by decide) (by decide) (by decide) (fun M => ?_) (fun j h1 h2 => ?_)
  · rw [gE_kr (by omega)]
    show gK 0 (hd ++ M) = _
    have := bgn_app hd M
    unfold gK hd at *
    simp only [List.cons_append, List.nil_append] at this ⊢
    rw [this, if_pos rfl]
    rfl
  · rw [gE_kr (by omega)]
    have h3 : j < 4 := h2
    match j, h1, h3 with
    | 1, _, _ => rfl
    | 2, _, _ => rfl
    | 3, _, _ => rfl
theorem sh_ok (m : Nat) (h1 : 1 ≤ m) (hm : m < 3) (c : UInt8) (m' : Nat) (h : c = 14 ∧ m' = 2 ∨ c = 15 ∧ m' = 1) : Ok 88 m [([c], none, m')] := by
  refine ok_one (by simp) (by simp) ?_ (fun M => ?_) (fun j h1 h2 => ?_)
  · intro b hb
    simp at hb
    rcases h with ⟨rfl, _⟩ | ⟨rfl, _⟩ <;> (subst hb; decide)
  · rw [gE_kr hm]
    show gK m (c :: M) = _
    rcases h with ⟨rfl, rfl⟩ | ⟨rfl, rfl⟩
    · rw [gK_low (by decide)]
      unfold kC
      rw [if_neg (by simp; omega), if_neg (by omega), if_pos (by decide)]
      rfl
    · rw [gK_low (by decide)]
      unfold kC
      rw [if_neg (by simp; omega), if_neg (by omega), if_neg (by decide), if_pos (by decide)]
      rfl
  · have : j < 1 := h2
    omega
theorem one_ok {k : Int} {m n : Nat} {u : Int} {m' : Nat} (hn : n < 128) (h : ∀ M, gE k m (b8 n :: M) = (0, 1, 1, u, (m' : Int))) : Ok k m [([b8 n], some u, m')] := by
  refine ok_one (by simp) (by simp) (fun b hb => ?_) (fun M => ?_) (fun j h1 h2 => ?_)
  · simp at hb
    subst hb
    rw [b8_toNat (by omega)]
    exact hn
  · exact h M
  · have : j < 1 := h2
    omega
theorem two_ok {k : Int} {m x y : Nat} {u : Int} (hx : x < 128) (hy : y < 128) (h : ∀ M, gE k m (b8 x :: b8 y :: M) = (0, 2, 1, u, (m : Int))) (h1 : gE k m [b8 x] = (1, 0, 0, 0, 0)) : Ok k m [([b8 x, b8 y], some u, m)] := by
  refine ok_one (by simp) (by simp) (fun b hb => ?_) (fun M => ?_) (fun j h2 h3 => ?_)
  · simp at hb
    rcases hb with rfl | rfl
    · rw [b8_toNat (by omega)]; exact hx
    · rw [b8_toNat (by omega)]; exact hy
  · exact h M
  · have : j < 2 := h3
    obtain rfl : j = 1 := by omega
    exact h1
def ldS (m mode : Nat) (s : List UInt8) : List Stp := if m ≠ mode then [(s, none, mode)] else []
theorem ld_txt (m mode : Nat) (s : List UInt8) : txt (ldS m mode s) = ld m mode s := by
  unfold ldS ld
  split
  · simp [txt]
  · rfl
theorem ld_told (m mode : Nat) (s : List UInt8) : told (ldS m mode s) = [] := by
  unfold ldS
  split <;> rfl
theorem ld_last (m mode : Nat) (s : List UInt8) : lastM m (ldS m mode s) = mode := by
  unfold ldS
  by_cases h : m = mode
  · rw [if_neg (by simpa using h)]; exact h
  · rw [if_pos h]; rfl
theorem ld_len (m mode : Nat) (s : List UInt8) : (ld m mode s).length ≤ s.length := by
  unfold ld
  split <;> simp
theorem ldJ_ok (m i : Nat) (hm : m < 3) (hi : i < 4) : Ok 83 m (ldS m (sqM i) (sq i)) := by
  unfold ldS
  split
  · exact sq_ok m i hm hi
  · exact ok_nil _ _
theorem pr_pair {k : Int} {m r c : Nat} {u : Int} (r1 : 1 ≤ r) (c1 : 1 ≤ c) (r2 : r ≤ 94) (c2 : c ≤ 94) (u0 : 0 ≤ u) (he : (if k = 88 then C16.scP (r : Int) (c : Int) else C14.scP (r : Int) (c : Int)) = some u.toNat) (M : List UInt8) : pr k m (r + 32) (b8 (c + 32) :: M) = (0, 2, 1, u, (m : Int)) := by
  have e3 : (b8 (c + 32)).toNat = c + 32 := b8_toNat (by omega)
  unfold pr
  simp only [e3]
  rw [if_neg (by omega), show ((r + 32 : Nat) : Int) - 32 = (r : Int) by omega, show ((c + 32 : Nat) : Int) - 32 = (c : Int) by omega, he]
  have e : ((u.toNat : Nat) : Int) = u := by omega
  simp only [e]
/-- What is written is read again, whatever follows. -/
theorem set_good {k : Int} {m : Nat} {u : Int} {bs : List UInt8} {md : Int} (hk : has k = true) (hm : m < 3) (h : sE k m u = (0, bs, md)) : ∃ (S : List Stp) (m' : Nat), md = (m' : Int) ∧ m' < 3 ∧ Ok k m S ∧ txt S = bs ∧ told S = [u] ∧ lastM m S = m' ∧ bs.length ≤ 7 ∧ 1 ≤ bs.length := by
  unfold sE at h
  rw [hk, if_neg (by simp), if_neg (by omega)] at h
  by_cases hc : u = 27 ∨ (k = 88 ∧ (u = 14 ∨ u = 15))
  · rw [if_pos hc] at h
    have e : (11 : Int) = 0 := congrArg Prod.fst h
    omega
  · rw [if_neg hc] at h
    rcases has_yes hk with rfl | rfl
    · rw [if_neg (by omega)] at h
      unfold sJ at h
      by_cases h2 : 0 ≤ u ∧ u < 128
      · rw [if_pos h2] at h
        simp only [Prod.mk.injEq, true_and] at h
        obtain ⟨rfl, rfl⟩ := h
        have hl := ld_len m 0 [27, 40, 66]
        refine ⟨ldS m 0 [27, 40, 66] ++ [([b8 u.toNat], some u, 0)], 0, rfl, by omega, ok_app (ldJ_ok m 0 hm (by omega)) ?_, ?_, ?_, ?_, by simp at hl ⊢; omega, by simp⟩
        · rw [ld_last]
          refine one_ok (by omega) (fun M => ?_)
          have e2 : (b8 u.toNat).toNat = u.toNat := b8_toNat (by omega)
          rw [gE_jp (by omega), gJ_low (ne27 (by rw [e2]; omega)), e2]
          unfold jC
          rw [if_neg (by omega), if_neg (by omega), if_pos (.inl rfl)]
          have e : ((u.toNat : Nat) : Int) = u := by omega
          rw [e]
          try rfl
        · rw [txt_app, ld_txt]; rfl
        · rw [told_app, ld_told]; rfl
        · rw [lastM_app]; rfl
      · rw [if_neg h2] at h
        by_cases h3 : u = 165
        · subst h3
          rw [if_pos rfl] at h
          simp only [Prod.mk.injEq, true_and] at h
          obtain ⟨rfl, rfl⟩ := h
          have hl := ld_len m 1 [27, 40, 74]
          refine ⟨ldS m 1 [27, 40, 74] ++ [([b8 92], some 165, 1)], 1, rfl, by omega, ok_app (ldJ_ok m 1 hm (by omega)) ?_, ?_, ?_, ?_, by simp at hl ⊢; omega, by simp⟩
          · rw [ld_last]
            refine one_ok (by omega) (fun M => ?_)
            rw [gE_jp (by omega), gJ_low (by decide)]
            rfl
          · rw [txt_app, ld_txt]; rfl
          · rw [told_app, ld_told]; rfl
          · rw [lastM_app]; rfl
        · rw [if_neg h3] at h
          by_cases h4 : u = 8254
          · subst h4
            rw [if_pos rfl] at h
            simp only [Prod.mk.injEq, true_and] at h
            obtain ⟨rfl, rfl⟩ := h
            have hl := ld_len m 1 [27, 40, 74]
            refine ⟨ldS m 1 [27, 40, 74] ++ [([b8 126], some 8254, 1)], 1, rfl, by omega, ok_app (ldJ_ok m 1 hm (by omega)) ?_, ?_, ?_, ?_, by simp at hl ⊢; omega, by simp⟩
            · rw [ld_last]
              refine one_ok (by omega) (fun M => ?_)
              rw [gE_jp (by omega), gJ_low (by decide)]
              rfl
            · rw [txt_app, ld_txt]; rfl
            · rw [told_app, ld_told]; rfl
            · rw [lastM_app]; rfl
          · rw [if_neg h4] at h
            cases ep : C14.plT u with
            | mk r q =>
            obtain ⟨c, ok⟩ := q
            rw [ep] at h
            cases ok with
            | false =>
              have e : (11 : Int) = 0 := congrArg Prod.fst h
              omega
            | true =>
              simp only [Prod.mk.injEq, true_and] at h
              obtain ⟨rfl, rfl⟩ := h
              obtain ⟨r1, r2, c1, c2, u0, he⟩ := C14.place_back ep
              have hl := ld_len m 2 [27, 36, 66]
              have e2 : (b8 (r + 32)).toNat = r + 32 := b8_toNat (by omega)
              refine ⟨ldS m 2 [27, 36, 66] ++ [([b8 (r + 32), b8 (c + 32)], some u, 2)], 2, rfl, by omega, ok_app (ldJ_ok m 3 hm (by omega)) ?_, ?_, ?_, ?_, by simp at hl ⊢; omega, by simp⟩
              · rw [ld_last]
                refine two_ok (by omega) (by omega) (fun M => ?_) ?_
                · rw [gE_jp (by omega), gJ_low (ne27 (by rw [e2]; omega)), e2]
                  unfold jC
                  rw [if_neg (by omega), if_neg (by omega), if_neg (by omega)]
                  exact pr_pair r1 c1 r2 c2 u0 (by rw [if_neg (by omega)]; exact he) M
                · rw [gE_jp (by omega), gJ_low (ne27 (by rw [e2]; omega)), e2]
                  unfold jC
                  rw [if_neg (by omega), if_neg (by omega), if_neg (by omega)]
                  rfl
              · rw [txt_app, ld_txt]; rfl
              · rw [told_app, ld_told]; rfl
              · rw [lastM_app]; rfl
    · rw [if_pos rfl] at h
      unfold sK at h
      have hhB : ∃ H, Ok 88 m H ∧ txt H = hB m ∧ told H = [] ∧ lastM m H = hM m ∧ 1 ≤ hM m ∧ hM m < 3 ∧ (hB m).length ≤ 4 := by
        unfold hB hM
        by_cases h0 : m = 0
        · subst h0
          refine ⟨[(hd, none, 1)], hd_ok, ?_, rfl, rfl, by simp, by simp, by decide⟩
          rw [if_pos rfl]
          simp [txt]
        · rw [if_neg h0, if_neg h0]
          exact ⟨[], ok_nil _ _, rfl, rfl, rfl, by omega, hm, by simp⟩
      obtain ⟨H, k1, k2, k3, k4, k5, k6, k7⟩ := hhB
      generalize hM m = m1 at *
      have ldK : ∀ (c : UInt8) (m' : Nat), (c = 14 ∧ m' = 2 ∨ c = 15 ∧ m' = 1) → Ok 88 m1 (ldS m1 m' [c]) := fun c m' hcm => by
        unfold ldS
        split
        · exact sh_ok m1 k5 k6 c m' hcm
        · exact ok_nil _ _
      by_cases h2 : 0 ≤ u ∧ u < 128
      · rw [if_pos h2] at h
        simp only [Prod.mk.injEq, true_and] at h
        obtain ⟨rfl, rfl⟩ := h
        have hl := ld_len m1 1 [15]
        refine ⟨H ++ (ldS m1 1 [15] ++ [([b8 u.toNat], some u, 1)]), 1, rfl, by omega, ok_app k1 ?_, ?_, ?_, ?_, by simp at hl ⊢; omega, by simp; omega⟩
        · rw [k4]
          refine ok_app (ldK 15 1 (.inr ⟨rfl, rfl⟩)) ?_
          rw [ld_last]
          refine one_ok (by omega) (fun M => ?_)
          have e2 : (b8 u.toNat).toNat = u.toNat := b8_toNat (by omega)
          rw [gE_kr (by omega), gK_low (ne27 (by rw [e2]; omega)), e2]
          unfold kC
          rw [if_neg (by omega), if_neg (by omega), if_neg (by omega), if_neg (by omega), if_pos (.inl rfl)]
          have e : ((u.toNat : Nat) : Int) = u := by omega
          rw [e]
          try rfl
        · rw [txt_app, k2, txt_app, ld_txt]; rfl
        · rw [told_app, k3, told_app, ld_told]; rfl
        · rw [lastM_app, lastM_app]; rfl
      · rw [if_neg h2] at h
        cases ep : C16.plT u with
        | mk r q =>
        obtain ⟨c, ok⟩ := q
        rw [ep] at h
        cases ok with
        | false =>
          have e : (11 : Int) = 0 := congrArg Prod.fst h
          omega
        | true =>
          simp only [Prod.mk.injEq, true_and] at h
          obtain ⟨rfl, rfl⟩ := h
          obtain ⟨r1, r2, c1, c2, u0, he⟩ := C16.place_back ep
          have hl := ld_len m1 2 [14]
          have e2 : (b8 (r + 32)).toNat = r + 32 := b8_toNat (by omega)
          refine ⟨H ++ (ldS m1 2 [14] ++ [([b8 (r + 32), b8 (c + 32)], some u, 2)]), 2, rfl, by omega, ok_app k1 ?_, ?_, ?_, ?_, by simp at hl ⊢; omega, by simp; omega⟩
          · rw [k4]
            refine ok_app (ldK 14 2 (.inl ⟨rfl, rfl⟩)) ?_
            rw [ld_last]
            refine two_ok (by omega) (by omega) (fun M => ?_) ?_
            · rw [gE_kr (by omega), gK_low (ne27 (by rw [e2]; omega)), e2]
              unfold kC
              rw [if_neg (by omega), if_neg (by omega), if_neg (by omega), if_neg (by omega), if_neg (by omega)]
              exact pr_pair r1 c1 r2 c2 u0 (by rw [if_pos rfl]; exact he) M
            · rw [gE_kr (by omega), gK_low (ne27 (by rw [e2]; omega)), e2]
              unfold kC
              rw [if_neg (by omega), if_neg (by omega), if_neg (by omega), if_neg (by omega), if_neg (by omega)]
              rfl
          · rw [txt_app, k2, txt_app, ld_txt]; rfl
          · rw [told_app, k3, told_app, ld_told]; rfl
          · rw [lastM_app, lastM_app]; rfl
theorem en_good {k : Int} {m : Nat} (hk : has k = true) (hm : m < 3) : ∃ S, Ok k m S ∧ txt S = enB k m ∧ told S = [] ∧ lastM m S = enM k m ∧ (enB k m).length ≤ 3 ∧ enM k m < 2 ∧ (k = 83 → enM k m = 0) := by
  rcases has_yes hk with rfl | rfl
  · match m, hm with
    | 0, _ => exact ⟨[], ok_nil _ _, rfl, rfl, rfl, by decide, by decide, fun _ => rfl⟩
    | 1, _ => exact ⟨[([27, 40, 66], none, 0)], sq_ok 1 0 (by omega) (by omega), rfl, rfl, rfl, by decide, by decide, fun _ => rfl⟩
    | 2, _ => exact ⟨[([27, 40, 66], none, 0)], sq_ok 2 0 (by omega) (by omega), rfl, rfl, rfl, by decide, by decide, fun _ => rfl⟩
  · match m, hm with
    | 0, _ => exact ⟨[], ok_nil _ _, rfl, rfl, rfl, by decide, by decide, fun _ => rfl⟩
    | 1, _ => exact ⟨[], ok_nil _ _, rfl, rfl, rfl, by decide, by decide, fun h => by omega⟩
    | 2, _ => exact ⟨[([15], none, 1)], sh_ok 2 (by omega) (by omega) 15 1 (.inr ⟨rfl, rfl⟩), rfl, rfl, rfl, by decide, by decide, fun h => by omega⟩
theorem set_err {k : Int} {m : Nat} {u : Int} (hk : has k = true) (hm : m < 3) : (∃ bs md, sE k m u = (0, bs, md)) ∨ sE k m u = (11, [], 0) := by
  unfold sE
  rw [hk, if_neg (by simp), if_neg (by omega)]
  split
  · exact .inr rfl
  · split
    · unfold sK
      split
      · exact .inl ⟨_, _, rfl⟩
      · split
        · exact .inl ⟨_, _, rfl⟩
        · exact .inr rfl
    · unfold sJ
      split
      · exact .inl ⟨_, _, rfl⟩
      · split
        · exact .inl ⟨_, _, rfl⟩
        · split
          · exact .inl ⟨_, _, rfl⟩
          · split
            · exact .inl ⟨_, _, rfl⟩
            · exact .inr rfl
end Go.Proofs.Ytdobjijebalkkaa.C21
