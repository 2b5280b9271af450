/- Layer 18, plain: folding and unfolding; what Get and Set answer; what is written is read again. -/
import Derived.Test.YtkkdaoimnmghgaaRD14
import Derived.Test.YtkkdaoimnmghgaaRJ14
import Derived.Test.YtkkdaoimnmghgaaSp
namespace Go.Proofs.Ytkkdaoimnmghgaa.C18
open Go.RowKit Go.Proofs.Ytkkdaoimnmghgaa.Mem Go.Proofs.Ytkkdaoimnmghgaa.Sp
set_option linter.unusedVariables false

theorem gt {a b c : World} {row : Option Nat} (h : a.grownBy b row) (k : b.grownBy c row) : a.grownBy c row := grownBy_trans h k
/-- Lead and trail of a row and a cell; what Pack answers. -/
def ldN (r : Nat) : Nat := if 159 < 129 + (r - 1) / 2 then 193 + (r - 1) / 2 else 129 + (r - 1) / 2
def trN (r c : Nat) : Nat := if r % 2 = 1 then (if 63 < c then 64 + c else 63 + c) else 158 + c
abbrev In2 (r c : Int) : Prop := 1 ≤ r ∧ r ≤ 94 ∧ 1 ≤ c ∧ c ≤ 94
def pkT (r c : Int) : Nat × Nat × Bool := if In2 r c then (ldN r.toNat, trN r.toNat c.toNat, true) else (0, 0, false)
def lead (a : Nat) : Bool := decide (129 ≤ a ∧ a ≤ 159 ∨ 224 ≤ a ∧ a ≤ 239)
def trail (b : Nat) : Bool := decide (64 ≤ b ∧ b ≤ 252 ∧ b ≠ 127)
/-- The row and the cell of a lead and a trail; what Unpack answers. -/
def upK (a : Nat) : Nat := if a ≤ 159 then a - 129 else a - 193
def upR (a b : Nat) : Nat := if b ≤ 158 then 2 * upK a + 1 else 2 * upK a + 2
def upC (b : Nat) : Nat := if b ≤ 158 then (if 128 ≤ b then b - 64 else b - 63) else b - 158
def upT (a b : Nat) : Nat × Nat × Bool := if lead a = true ∧ trail b = true then (upR a b, upC b, true) else (0, 0, false)
theorem lead_iff {a : Nat} : lead a = true ↔ (129 ≤ a ∧ a ≤ 159 ∨ 224 ≤ a ∧ a ≤ 239) := by unfold lead; exact decide_eq_true_iff
theorem trail_iff {b : Nat} : trail b = true ↔ (64 ≤ b ∧ b ≤ 252 ∧ b ≠ 127) := by unfold trail; exact decide_eq_true_iff
theorem ld_is {r : Nat} (h1 : 1 ≤ r) (h2 : r ≤ 94) : lead (ldN r) = true ∧ ldN r < 256 := by
  rw [lead_iff]
  unfold ldN
  split <;> omega
theorem tr_is {r c : Nat} (h1 : 1 ≤ c) (h2 : c ≤ 94) : trail (trN r c) = true ∧ trN r c < 256 := by
  rw [trail_iff]
  unfold trN
  split
  · split <;> omega
  · omega
theorem up_of {r c : Nat} (h1 : 1 ≤ r) (h2 : r ≤ 94) (h3 : 1 ≤ c) (h4 : c ≤ 94) : upT (ldN r) (trN r c) = (r, c, true) := by
  unfold upT
  rw [if_pos ⟨(ld_is h1 h2).1, (tr_is h3 h4).1⟩]
  have e1 : upK (ldN r) = (r - 1) / 2 := by
    unfold upK ldN
    split <;> split <;> omega
  have e2 : upR (ldN r) (trN r c) = r := by
    unfold upR
    rw [e1]
    unfold trN
    split <;> split <;> (try split at *) <;> omega
  have e3 : upC (trN r c) = c := by
    unfold upC trN
    by_cases h5 : r % 2 = 1
    · rw [if_pos h5]
      by_cases h6 : 63 < c
      · rw [if_pos h6, if_pos (by omega), if_pos (by omega)]
        omega
      · rw [if_neg h6, if_pos (by omega), if_neg (by omega)]
        omega
    · rw [if_neg h5, if_neg (by omega)]
      omega
  rw [e2, e3]
theorem of_up {a b : Nat} (ha : lead a = true) (hb : trail b = true) : 1 ≤ upR a b ∧ upR a b ≤ 94 ∧ 1 ≤ upC b ∧ upC b ≤ 94 ∧ ldN (upR a b) = a ∧ trN (upR a b) (upC b) = b := by
  rw [lead_iff] at ha
  rw [trail_iff] at hb
  have k1 : upK a ≤ 46 ∧ (a = 129 + upK a ∧ upK a ≤ 30 ∨ a = 193 + upK a ∧ 31 ≤ upK a) := by
    unfold upK
    split <;> omega
  by_cases h1 : b ≤ 158
  · have e1 : upR a b = 2 * upK a + 1 := by unfold upR; rw [if_pos h1]
    have e4 : (2 * upK a + 1 - 1) / 2 = upK a := by omega
    by_cases h2 : 128 ≤ b
    · have e2 : upC b = b - 64 := by unfold upC; rw [if_pos h1, if_pos h2]
      rw [e1, e2]
      refine ⟨by omega, by omega, by omega, by omega, ?_, ?_⟩
      · unfold ldN
        rw [e4]
        split <;> omega
      · unfold trN
        rw [if_pos (by omega), if_pos (by omega)]
        omega
    · have e2 : upC b = b - 63 := by unfold upC; rw [if_pos h1, if_neg h2]
      rw [e1, e2]
      refine ⟨by omega, by omega, by omega, by omega, ?_, ?_⟩
      · unfold ldN
        rw [e4]
        split <;> omega
      · unfold trN
        rw [if_pos (by omega), if_neg (by omega)]
        omega
  · have e1 : upR a b = 2 * upK a + 2 := by unfold upR; rw [if_neg h1]
    have e2 : upC b = b - 158 := by unfold upC; rw [if_neg h1]
    have e4 : (2 * upK a + 2 - 1) / 2 = upK a := by omega
    rw [e1, e2]
    refine ⟨by omega, by omega, by omega, by omega, ?_, ?_⟩
    · unfold ldN
      rw [e4]
      split <;> omega
    · unfold trN
      rw [if_neg (by omega)]
      omega
theorem up_back {a b r c : Nat} (h : upT a b = (r, c, true)) : 1 ≤ r ∧ r ≤ 94 ∧ 1 ≤ c ∧ c ≤ 94 ∧ ldN r = a ∧ trN r c = b ∧ lead a = true ∧ trail b = true := by
  unfold upT at h
  split at h
  · rename_i hc
    have e1 : upR a b = r := congrArg Prod.fst h
    have e2 : upC b = c := congrArg (fun p => p.2.1) h
    have := of_up hc.1 hc.2
    rw [e1, e2] at this
    exact ⟨this.1, this.2.1, this.2.2.1, this.2.2.2.1, this.2.2.2.2.1, this.2.2.2.2.2, hc.1, hc.2⟩
  · have : false = true := congrArg (fun p => p.2.2) h
    cases this
theorem up_none {a b : Nat} (h : ∀ r c, 1 ≤ r → r ≤ 94 → 1 ≤ c → c ≤ 94 → ldN r = a → trN r c = b → False) : upT a b = (0, 0, false) := by
  unfold upT
  rw [if_neg]
  rintro ⟨h1, h2⟩
  obtain ⟨a1, a2, a3, a4, a5, a6⟩ := of_up h1 h2
  exact h _ _ a1 a2 a3 a4 a5 a6
/-- What Get answers: the error, N, K, A. -/
def gE1 (a : Nat) : Int × Int × Int × Int := match C14.haR a with | none => (10, 1, 0, 0) | some u => (0, 1, 1, (u : Int))
def gE2 (a b : Nat) : Int × Int × Int × Int := if trail b = false then (10, 1, 0, 0) else match C14.scP (upR a b : Int) (upC b : Int) with | none => (10, 2, 0, 0) | some u => (0, 2, 1, (u : Int))
def gE (L : List UInt8) : Int × Int × Int × Int := match L with
  | [] => (1, 0, 0, 0)
  | a :: r => if lead a.toNat = false then gE1 a.toNat else match r with
    | [] => (1, 0, 0, 0)
    | b :: _ => gE2 a.toNat b.toNat
def gotV (p : Int × Int × Int × Int) : Value := gV p.1 p.2.1 p.2.2.1 p.2.2.2
/-- What Set answers: the error, the bytes. -/
def sE (u : Int) : Int × List UInt8 := match C14.hbR u with
  | some b => (0, [b8 b])
  | none => match C14.plT u with
    | (r, c, true) => (0, [b8 (ldN r), b8 (trN r c)])
    | (_, _, false) => (11, [])
def putV (p : Int × List UInt8) : Value := pV p.1 (str p.2)
theorem hb_some {u : Int} {b : Nat} (h : C14.hbR u = some b) : b < 256 ∧ ∃ n : Nat, C14.haR b = some n ∧ (n : Int) = u := by
  unfold C14.hbR at h
  have h1 := List.find?_some h
  have h2 := List.mem_range.1 (List.mem_of_find?_eq_some h)
  simp only [decide_eq_true_eq] at h1
  refine ⟨h2, ?_⟩
  cases e : C14.haR b with
  | none => rw [e] at h1; cases h1
  | some n => rw [e] at h1; exact ⟨n, rfl, Option.some.inj h1⟩
theorem ha_nolead {b n : Nat} (h : C14.haR b = some n) : lead b = false := by
  cases e : lead b
  · rfl
  · rw [lead_iff] at e
    unfold C14.haR at h
    rw [if_neg (by omega), if_neg (by omega), if_neg (by omega), if_neg (by omega)] at h
    cases h
theorem ha_le {b n : Nat} (hb : b < 256) (h : C14.haR b = some n) : n ≤ 65535 := by
  unfold C14.haR at h
  split at h
  · have := Option.some.inj h; omega
  · split at h
    · have := Option.some.inj h; omega
    · split at h
      · have := Option.some.inj h; omega
      · split at h
        · have := Option.some.inj h; omega
        · cases h
theorem back_plain {u : Int} {bs : List UInt8} (h : sE u = (0, bs)) (M : List UInt8) : gE (bs ++ M) = (0, (bs.length : Int), 1, u) := by
  unfold sE at h
  cases hb : C14.hbR u with
  | some b =>
    rw [hb] at h
    have e : [b8 b] = bs := congrArg Prod.snd h
    subst e
    obtain ⟨h1, n, h2, h3⟩ := hb_some hb
    unfold gE
    simp only [List.cons_append, List.nil_append, b8_toNat h1, List.length_cons, List.length_nil]
    rw [if_pos (ha_nolead h2)]
    unfold gE1
    rw [h2]
    simp only [Prod.mk.injEq, true_and]
    omega
  | none =>
    rw [hb] at h
    cases ep : C14.plT u with
    | mk r q =>
    obtain ⟨c, ok⟩ := q
    simp only at h
    rw [ep] at h
    cases ok with
    | true =>
      obtain ⟨r1, r2, c1, c2, u0, he⟩ := C14.place_back ep
      have e : [b8 (ldN r), b8 (trN r c)] = bs := congrArg Prod.snd h
      subst e
      have hl := ld_is r1 r2
      have ht := tr_is (r := r) c1 c2
      unfold gE
      simp only [List.cons_append, List.nil_append, b8_toNat hl.2, b8_toNat ht.2, List.length_cons, List.length_nil]
      rw [if_neg (by rw [hl.1]; simp)]
      unfold gE2
      rw [if_neg (by rw [ht.1]; simp)]
      have hu := up_of r1 r2 c1 c2
      unfold upT at hu
      rw [if_pos ⟨hl.1, ht.1⟩] at hu
      have e1 : upR (ldN r) (trN r c) = r := congrArg Prod.fst hu
      have e2 : upC (trN r c) = c := congrArg (fun p => p.2.1) hu
      rw [e1, e2, he]
      simp only [Prod.mk.injEq, true_and]
      omega
    | false =>
      have e : (11 : Int) = 0 := congrArg Prod.fst h
      omega
theorem got_ways (L : List UInt8) : gE L = (1, 0, 0, 0) ∨ (∃ n : Nat, gE L = (10, (n : Int), 0, 0) ∧ 1 ≤ n ∧ n ≤ 2 ∧ n ≤ L.length) ∨ ∃ (n u : Nat) (bs : List UInt8), gE L = (0, (n : Int), 1, (u : Int)) ∧ u ≤ 65535 ∧ sE (u : Int) = (0, bs) := by
  unfold gE
  cases L with
  | nil => exact .inl rfl
  | cons a r =>
    have ha := a.toNat_lt
    simp only
    cases hl : lead a.toNat with
    | false =>
      rw [if_pos rfl]
      unfold gE1
      cases hh : C14.haR a.toNat with
      | none => exact .inr (.inl ⟨1, rfl, by omega, by omega, by simp⟩)
      | some u =>
        refine .inr (.inr ⟨1, u, [b8 a.toNat], rfl, ha_le ha hh, ?_⟩)
        unfold sE
        rw [C14.half_back _ ha _ hh]
    | true =>
      rw [if_neg (by simp)]
      cases r with
      | nil => exact .inl rfl
      | cons b r =>
        have hb := b.toNat_lt
        simp only
        unfold gE2
        cases ht : trail b.toNat with
        | false =>
          rw [if_pos rfl]
          exact .inr (.inl ⟨1, rfl, by omega, by omega, by simp⟩)
        | true =>
          rw [if_neg (by simp)]
          obtain ⟨a1, a2, a3, a4, a5, a6⟩ := of_up hl ht
          cases hs : C14.scP (upR a.toNat b.toNat : Int) (upC b.toNat : Int) with
          | none => exact .inr (.inl ⟨2, rfl, by omega, by omega, by simp⟩)
          | some u =>
            have hu := (C14.scP_small hs).1
            obtain ⟨x, hx⟩ : ∃ x : Nat, upR a.toNat b.toNat = x + 1 := ⟨_, (Nat.sub_add_cancel a1).symm⟩
            obtain ⟨y, hy⟩ : ∃ y : Nat, upC b.toNat = y + 1 := ⟨_, (Nat.sub_add_cancel a3).symm⟩
            rw [hx, hy] at hs
            obtain ⟨A, B, ep, _⟩ := C14.back_place (r := x) (c := y) (by omega) (by omega) (by exact_mod_cast hs)
            cases hb2 : C14.hbR (u : Int) with
            | some b' =>
              refine .inr (.inr ⟨2, u, [b8 b'], rfl, hu, ?_⟩)
              unfold sE
              rw [hb2]
            | none =>
              refine .inr (.inr ⟨2, u, [b8 (ldN A), b8 (trN A B)], rfl, hu, ?_⟩)
              unfold sE
              rw [hb2]
              simp only
              rw [ep]
theorem se_two (u : Int) : sE u = (11, []) ∨ ∃ bs, sE u = (0, bs) ∧ bs.length ≤ 2 := by
  unfold sE
  cases C14.hbR u with
  | some b => exact .inr ⟨_, rfl, by simp⟩
  | none =>
    cases ep : C14.plT u with
    | mk r q =>
    obtain ⟨c, ok⟩ := q
    cases ok with
    | true => exact .inr ⟨_, rfl, by simp⟩
    | false => exact .inl rfl
end Go.Proofs.Ytkkdaoimnmghgaa.C18
