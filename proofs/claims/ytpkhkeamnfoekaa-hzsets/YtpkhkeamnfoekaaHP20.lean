/- Layer 20, plain: what Get, Set and End answer; what is written is read again. -/
import Derived.Test.YtpkhkeamnfoekaaRD15
import Derived.Test.YtpkhkeamnfoekaaGs
namespace Go.Proofs.Ytpkhkeamnfoekaa.C20
open Go.RowKit Go.Proofs.Ytpkhkeamnfoekaa.Mem Go.Proofs.Ytpkhkeamnfoekaa.Sp
set_option linter.unusedVariables false

theorem gt {a b c : World} {row : Option Nat} (h : a.grownBy b row) (k : b.grownBy c row) : a.grownBy c row := grownBy_trans h k
/-- 0: outside; 1: within; 2: a state that is none of HZ. -/
def mo (md bi ac he : Int) : Nat := if bi = 0 ∧ ac = 0 ∧ he = 0 then (if md = 0 then 0 else if md = 1 then 1 else 2) else 2
theorem mo_is (m : Nat) (h : m < 2) : mo (m : Int) 0 0 0 = m := by
  unfold mo
  rw [if_pos ⟨rfl, rfl, rfl⟩]
  by_cases h0 : m = 0
  · subst h0; rfl
  · obtain rfl : m = 1 := by omega
    rfl
/-- What Get answers: the error, N, K, A, the Mode. -/
def gO (L : List UInt8) : Int × Int × Int × Int × Int := match L with
  | [] => (1, 0, 0, 0, 0)
  | b :: r => if 128 ≤ b.toNat then (10, 1, 0, 0, 0) else if b.toNat ≠ 126 then (0, 1, 1, (b.toNat : Int), 0) else match r with
    | [] => (1, 0, 0, 0, 0)
    | c :: _ => if c.toNat = 126 then (0, 2, 1, 126, 0) else if c.toNat = 123 then (0, 2, 0, 0, 1) else if c.toNat = 10 then (0, 2, 0, 0, 0) else (10, 1, 0, 0, 0)
def gP (b c : Nat) : Int × Int × Int × Int × Int := match C15.scP ((b : Int) - 32) ((c : Int) - 32) with | none => (10, 2, 0, 0, 1) | some n => (0, 2, 1, (n : Int), 1)
def gW (L : List UInt8) : Int × Int × Int × Int × Int := match L with
  | [] => (1, 0, 0, 0, 0)
  | b :: r => if b.toNat = 10 then (0, 1, 1, 10, 0) else if b.toNat ≠ 126 ∧ (b.toNat < 33 ∨ 119 < b.toNat) then (10, 1, 0, 0, 1) else match r with
    | [] => (1, 0, 0, 0, 0)
    | c :: _ => if b.toNat = 126 then (if c.toNat = 125 then (0, 2, 0, 0, 0) else (10, 1, 0, 0, 1)) else if c.toNat < 33 ∨ 126 < c.toNat then (10, 1, 0, 0, 1) else gP b.toNat c.toNat
def gE (m : Nat) (L : List UInt8) : Int × Int × Int × Int × Int := if m = 0 then gO L else if m = 1 then gW L else (7, 0, 0, 0, 0)
def gotV (p : Int × Int × Int × Int × Int) : Value := .agg (gM p.1 p.2.1 p.2.2.1 p.2.2.2.1 p.2.2.2.2)
/-- What End answers: the bytes, the error; what Set answers: the error, the bytes, the Mode. -/
def enB (m : Nat) : List UInt8 := if m = 1 then [126, 125] else []
def enE (m : Nat) : Int := if m < 2 then 0 else 7
def inB (m : Nat) : List UInt8 := if m = 1 then [] else [126, 123]
def sE (m : Nat) (u : Int) : Int × List UInt8 × Int := if m < 2 then (if u = 126 then (0, enB m ++ [126, 126], 0) else if 0 ≤ u ∧ u < 128 then (0, enB m ++ [b8 u.toNat], 0) else match C15.plT u with
  | (r, c, true) => if 87 < r then (11, [], 0) else (0, inB m ++ [b8 (r + 32), b8 (c + 32)], 1)
  | (_, _, false) => (11, [], 0)) else (7, [], 0)
def putV (p : Int × List UInt8 × Int) : Value := .agg (pM p.1 (str p.2.1) p.2.2)
/-- The steps that lead outside, and within. -/
def enS (m : Nat) : List Stp := if m = 1 then [([126, 125], none, 0)] else []
def inS (m : Nat) : List Stp := if m = 1 then [] else [([126, 123], none, 1)]
theorem en_good (m : Nat) (h : m < 2) : SGood gE m (enS m) ∧ txt (enS m) = enB m ∧ told (enS m) = [] ∧ lastM m (enS m) = 0 := by
  by_cases h1 : m = 1
  · subst h1
    refine ⟨good_one (by decide) (by decide) (by decide) (fun M => rfl), rfl, rfl, rfl⟩
  · obtain rfl : m = 0 := by omega
    exact ⟨trivial, rfl, rfl, rfl⟩
theorem in_good (m : Nat) (h : m < 2) : SGood gE m (inS m) ∧ txt (inS m) = inB m ∧ told (inS m) = [] ∧ lastM m (inS m) = 1 := by
  by_cases h1 : m = 1
  · subst h1
    exact ⟨trivial, rfl, rfl, rfl⟩
  · obtain rfl : m = 0 := by omega
    refine ⟨good_one (by decide) (by decide) (by decide) (fun M => rfl), rfl, rfl, rfl⟩
theorem enB_len (m : Nat) : (enB m).length ≤ 2 := by unfold enB; split <;> simp
theorem inB_len (m : Nat) : (inB m).length ≤ 2 := by unfold inB; split <;> simp
theorem set_low (m : Nat) (h : m < 2) (n : Nat) (hn : n < 128) (h6 : n ≠ 126) : sE m (n : Int) = (0, enB m ++ [b8 n], 0) := by
  unfold sE
  rw [if_pos h, if_neg (by omega), if_pos (by omega), Int.toNat_natCast]
theorem get_low (n : Nat) (hn : n < 128) (h6 : n ≠ 126) (M : List UInt8) : gE 0 (b8 n :: M) = (0, 1, 1, (n : Int), 0) := by
  unfold gE
  rw [if_pos rfl]
  unfold gO
  have e2 : (b8 n).toNat = n := b8_toNat (by omega)
  simp only [e2]
  rw [if_neg (by omega), if_pos h6]
/-- What is written is read again, whatever follows. -/
theorem set_good {m : Nat} {u : Int} {bs : List UInt8} {md : Int} (hm : m < 2) (h : sE m u = (0, bs, md)) : ∃ (S : List Stp) (m' : Nat), md = (m' : Int) ∧ m' < 2 ∧ SGood gE m S ∧ txt S = bs ∧ told S = [u] ∧ lastM m S = m' ∧ bs.length ≤ 4 ∧ 1 ≤ bs.length := by
  unfold sE at h
  rw [if_pos hm] at h
  obtain ⟨en1, en2, en3, en4⟩ := en_good m hm
  obtain ⟨in1, in2, in3, in4⟩ := in_good m hm
  have el := enB_len m
  have il := inB_len m
  by_cases h1 : u = 126
  · rw [if_pos h1] at h
    subst h1
    simp only [Prod.mk.injEq, true_and] at h
    obtain ⟨rfl, rfl⟩ := h
    refine ⟨enS m ++ [([126, 126], some 126, 0)], 0, rfl, by omega, good_app en1 ?_, ?_, ?_, ?_, by simp; omega, by simp⟩
    · rw [en4]
      exact good_one (by decide) (by decide) (by decide) (fun M => rfl)
    · rw [txt_app, en2]; rfl
    · rw [told_app, en3]; rfl
    · rw [lastM_app]; rfl
  · rw [if_neg h1] at h
    by_cases h2 : 0 ≤ u ∧ u < 128
    · rw [if_pos h2] at h
      simp only [Prod.mk.injEq, true_and] at h
      obtain ⟨rfl, rfl⟩ := h
      have e2 : (b8 u.toNat).toNat = u.toNat := b8_toNat (by omega)
      refine ⟨enS m ++ [([b8 u.toNat], some u, 0)], 0, rfl, by omega, good_app en1 ?_, ?_, ?_, ?_, by simp; omega, by simp⟩
      · rw [en4]
        refine good_one (by simp) (by simp) (fun b hb => ?_) (fun M => ?_)
        · simp at hb
          subst hb
          rw [e2]
          omega
        · have := get_low u.toNat (by omega) (by omega) M
          rw [show ((u.toNat : Nat) : Int) = u by omega] at this
          exact this
      · rw [txt_app, en2]; rfl
      · rw [told_app, en3]; rfl
      · rw [lastM_app]; rfl
    · rw [if_neg h2] at h
      cases ep : C15.plT u with
      | mk r q =>
      obtain ⟨c, ok⟩ := q
      rw [ep] at h
      cases ok with
      | false =>
        have e : (11 : Int) = 0 := congrArg Prod.fst h
        omega
      | true =>
        simp only at h
        by_cases h3 : 87 < r
        · rw [if_pos h3] at h
          have e : (11 : Int) = 0 := congrArg Prod.fst h
          omega
        · rw [if_neg h3] at h
          simp only [Prod.mk.injEq, true_and] at h
          obtain ⟨rfl, rfl⟩ := h
          obtain ⟨r1, r2, c1, c2, u0, he⟩ := C15.place_back ep
          have e2 : (b8 (r + 32)).toNat = r + 32 := b8_toNat (by omega)
          have e3 : (b8 (c + 32)).toNat = c + 32 := b8_toNat (by omega)
          refine ⟨inS m ++ [([b8 (r + 32), b8 (c + 32)], some u, 1)], 1, rfl, by omega, good_app in1 ?_, ?_, ?_, ?_, by simp; omega, by simp⟩
          · rw [in4]
            refine good_one (by simp) (by simp) (fun b hb => ?_) (fun M => ?_)
            · simp at hb
              rcases hb with rfl | rfl
              · rw [e2]; omega
              · rw [e3]; omega
            · unfold gE
              rw [if_neg (by omega), if_pos rfl]
              unfold gW
              simp only [List.cons_append, List.nil_append, e2, e3]
              rw [if_neg (by omega), if_neg (by omega), if_neg (by omega), if_neg (by omega)]
              unfold gP
              rw [show ((r + 32 : Nat) : Int) - 32 = (r : Int) by omega, show ((c + 32 : Nat) : Int) - 32 = (c : Int) by omega, he]
              unfold tells
              simp only [List.length_cons, List.length_nil, Option.isSome_some, Option.getD_some, Prod.mk.injEq, true_and]
              refine ⟨rfl, rfl, by omega, rfl⟩
          · rw [txt_app, in2]; rfl
          · rw [told_app, in3]; rfl
          · rw [lastM_app]; rfl
theorem set_err {m : Nat} {u : Int} (hm : m < 2) : (∃ bs md, sE m u = (0, bs, md)) ∨ sE m u = (11, [], 0) := by
  unfold sE
  rw [if_pos hm]
  by_cases h1 : u = 126
  · rw [if_pos h1]; exact .inl ⟨_, _, rfl⟩
  · rw [if_neg h1]
    by_cases h2 : 0 ≤ u ∧ u < 128
    · rw [if_pos h2]; exact .inl ⟨_, _, rfl⟩
    · rw [if_neg h2]
      cases C15.plT u with
      | mk r q =>
      obtain ⟨c, ok⟩ := q
      cases ok with
      | false => exact .inr rfl
      | true =>
        simp only
        by_cases h3 : 87 < r
        · rw [if_pos h3]; exact .inr rfl
        · rw [if_neg h3]; exact .inl ⟨_, _, rfl⟩
/-- A step that tells something, or nothing, leads to a Mode that is one of HZ. -/
theorem gO_mode (L : List UInt8) : (gO L).2.2.2.2 = 0 ∨ (gO L).2.2.2.2 = 1 := by
  unfold gO
  cases L with
  | nil => exact .inl rfl
  | cons b r =>
    simp only
    split
    · exact .inl rfl
    · split
      · exact .inl rfl
      · cases r with
        | nil => exact .inl rfl
        | cons c r =>
          simp only
          split
          · exact .inl rfl
          · split
            · exact .inr rfl
            · split <;> exact .inl rfl
theorem gW_mode (L : List UInt8) : (gW L).2.2.2.2 = 0 ∨ (gW L).2.2.2.2 = 1 := by
  unfold gW
  cases L with
  | nil => exact .inl rfl
  | cons b r =>
    simp only
    split
    · exact .inl rfl
    · split
      · exact .inr rfl
      · cases r with
        | nil => exact .inl rfl
        | cons c r =>
          simp only
          split
          · split
            · exact .inl rfl
            · exact .inr rfl
          · split
            · exact .inr rfl
            · unfold gP
              split <;> exact .inr rfl
theorem gE_mode (m : Nat) (L : List UInt8) : (gE m L).2.2.2.2 = 0 ∨ (gE m L).2.2.2.2 = 1 := by
  unfold gE
  split
  · exact gO_mode L
  · split
    · exact gW_mode L
    · exact .inl rfl
theorem good_less {m m' : Nat} {c : List UInt8} {a : Option Int} {T : List Stp} (h : SGood gE m ((c, a, m') :: T)) : m' < 2 := by
  have h1 := h.1.2.2.2 []
  have h2 := gE_mode m (c ++ [])
  rw [h1] at h2
  unfold tells at h2
  simp only at h2
  omega
end Go.Proofs.Ytpkhkeamnfoekaa.C20
