/- Layer 17, plain: what Get and Set answer; what is written is read again. -/
import Derived.Test.YtcbjkamjkaiofaaRD14
import Derived.Test.YtcbjkamjkaiofaaRD15
import Derived.Test.YtcbjkamjkaiofaaRD16
import Derived.Test.YtcbjkamjkaiofaaRJ14
import Derived.Test.YtcbjkamjkaiofaaSp
namespace Go.Proofs.Ytcbjkamjkaiofaa.C17
open Go.RowKit Go.Proofs.Ytcbjkamjkaiofaa.Mem Go.Proofs.Ytcbjkamjkaiofaa.Sp
set_option linter.unusedVariables false

def has (k : Int) : Bool := decide (k = 81 ∨ k = 84 ∨ k = 86)
/-- The scalar of a kind's row and cell; the place of a scalar. -/
def esc (k r c : Int) : Option Nat := if k = 81 then C14.scP r c else if k = 84 then C15.scP r c else C16.scP r c
def epl (k u : Int) : Nat × Nat × Bool := if k = 81 then C14.plT u else if k = 84 then C15.plT u else C16.plT u
/-- What two bytes stand for. -/
def two (k : Int) (b c : Nat) : Option Nat := if b = 142 ∧ k = 81 then C14.haR c else esc k ((b : Int) - 160) ((c : Int) - 160)
/-- What Get answers: the error, N, K, A. -/
def gE2 (k : Int) (b c : Nat) : Int × Int × Int × Int :=
  if c < 161 ∨ 254 < c ∨ ((b = 142 ∧ k = 81) ∧ 223 < c) then (10, 1, 0, 0) else match two k b c with | none => (10, 2, 0, 0) | some u => (0, 2, 1, (u : Int))
def gE (k : Int) (L : List UInt8) : Int × Int × Int × Int := if has k = false then (5, 0, 0, 0) else match L with
  | [] => (1, 0, 0, 0)
  | b :: r => if b.toNat < 128 then (0, 1, 1, (b.toNat : Int)) else if ¬ (b.toNat = 142 ∧ k = 81) ∧ (b.toNat < 161 ∨ 254 < b.toNat) then (10, 1, 0, 0) else match r with
    | [] => (1, 0, 0, 0)
    | c :: _ => gE2 k b.toNat c.toNat
def gotV (p : Int × Int × Int × Int) : Value := gV p.1 p.2.1 p.2.2.1 p.2.2.2
/-- What Set answers: the error, the bytes. -/
def sE (k u : Int) : Int × List UInt8 := if has k = false then (5, []) else if 0 ≤ u ∧ u < 128 then (0, [b8 u.toNat]) else match epl k u with
  | (r, c, true) => (0, [b8 (r + 160), b8 (c + 160)])
  | (_, _, false) => if k = 81 ∧ 65377 ≤ u ∧ u ≤ 65439 then (0, [b8 142, b8 (u.toNat - 65377 + 161)]) else (11, [])
def putV (p : Int × List UInt8) : Value := pV p.1 (str p.2)
theorem has_yes {k : Int} (h : has k = true) : k = 81 ∨ k = 84 ∨ k = 86 := of_decide_eq_true h
theorem epl_back {k u : Int} {r c : Nat} (h : epl k u = (r, c, true)) : 1 ≤ r ∧ r ≤ 94 ∧ 1 ≤ c ∧ c ≤ 94 ∧ 0 ≤ u ∧ esc k (r : Int) (c : Int) = some u.toNat := by
  unfold epl at h
  unfold esc
  by_cases h1 : k = 81
  · rw [if_pos h1] at h ⊢
    exact C14.place_back h
  · rw [if_neg h1] at h ⊢
    by_cases h2 : k = 84
    · rw [if_pos h2] at h ⊢
      exact C15.place_back h
    · rw [if_neg h2] at h ⊢
      exact C16.place_back h
theorem esc_epl {k : Int} {r c n : Nat} (hr : r < 94) (hc : c < 94) (h : esc k ((r : Int) + 1) ((c : Int) + 1) = some n) : ∃ A B, epl k (n : Int) = (A, B, true) := by
  unfold esc at h
  unfold epl
  by_cases h1 : k = 81
  · rw [if_pos h1] at h ⊢
    obtain ⟨A, B, e, _⟩ := C14.back_place hr hc h
    exact ⟨A, B, e⟩
  · rw [if_neg h1] at h ⊢
    by_cases h2 : k = 84
    · rw [if_pos h2] at h ⊢
      obtain ⟨A, B, e, _⟩ := C15.back_place hr hc h
      exact ⟨A, B, e⟩
    · rw [if_neg h2] at h ⊢
      obtain ⟨A, B, e, _⟩ := C16.back_place hr hc h
      exact ⟨A, B, e⟩
theorem haR_kana {b n : Nat} (h1 : 161 ≤ b) (h2 : b ≤ 223) : C14.haR b = some (65377 + (b - 161)) := by
  unfold C14.haR
  rw [if_neg (by omega), if_neg (by omega), if_neg (by omega), if_pos ⟨h1, h2⟩]
theorem hbR_kana {u : Int} (h1 : 65377 ≤ u) (h2 : u ≤ 65439) : C14.hbR u = some (u.toNat - 65377 + 161) := by
  have e := C14.half_back (u.toNat - 65377 + 161) (by omega) (65377 + (u.toNat - 65377 + 161 - 161)) (haR_kana (n := 0) (by omega) (by omega))
  rw [show ((65377 + (u.toNat - 65377 + 161 - 161) : Nat) : Int) = u by omega] at e
  exact e
/-- What is written is read again, whatever follows. -/
theorem back_plain {k u : Int} {bs : List UInt8} (hk : has k = true) (h : sE k u = (0, bs)) (M : List UInt8) : gE k (bs ++ M) = (0, (bs.length : Int), 1, u) := by
  unfold sE at h
  rw [hk, if_neg (by simp)] at h
  unfold gE
  rw [hk, if_neg (by simp)]
  by_cases h1 : 0 ≤ u ∧ u < 128
  · rw [if_pos h1] at h
    have e : [b8 u.toNat] = bs := congrArg Prod.snd h
    subst e
    have e2 : (b8 u.toNat).toNat = u.toNat := b8_toNat (by omega)
    simp only [List.cons_append, List.nil_append, e2, List.length_cons, List.length_nil]
    rw [if_pos (by omega)]
    simp only [Prod.mk.injEq, true_and]
    omega
  · rw [if_neg h1] at h
    cases ep : epl k u with
    | mk r q =>
    obtain ⟨c, ok⟩ := q
    rw [ep] at h
    cases ok with
    | true =>
      obtain ⟨r1, r2, c1, c2, u0, he⟩ := epl_back ep
      have e : [b8 (r + 160), b8 (c + 160)] = bs := congrArg Prod.snd h
      subst e
      have e2 : (b8 (r + 160)).toNat = r + 160 := b8_toNat (by omega)
      have e3 : (b8 (c + 160)).toNat = c + 160 := b8_toNat (by omega)
      simp only [List.cons_append, List.nil_append, e2, e3, List.length_cons, List.length_nil]
      rw [if_neg (by omega), if_neg (by omega)]
      unfold gE2
      rw [if_neg (by omega)]
      have e4 : two k (r + 160) (c + 160) = some u.toNat := by
        unfold two
        rw [if_neg (by omega), show ((r + 160 : Nat) : Int) - 160 = (r : Int) by omega, show ((c + 160 : Nat) : Int) - 160 = (c : Int) by omega]
        exact he
      rw [e4]
      simp only [Prod.mk.injEq, true_and]
      omega
    | false =>
      simp only at h
      by_cases h2 : k = 81 ∧ 65377 ≤ u ∧ u ≤ 65439
      · rw [if_pos h2] at h
        have e : [b8 142, b8 (u.toNat - 65377 + 161)] = bs := congrArg Prod.snd h
        subst e
        have e2 : (b8 142).toNat = 142 := b8_toNat (by omega)
        have e3 : (b8 (u.toNat - 65377 + 161)).toNat = u.toNat - 65377 + 161 := b8_toNat (by omega)
        simp only [List.cons_append, List.nil_append, e2, e3, List.length_cons, List.length_nil]
        rw [if_neg (by omega), if_neg (fun h => h.1 ⟨by simp, h2.1⟩)]
        unfold gE2
        rw [if_neg (by omega)]
        have e4 : two k 142 (u.toNat - 65377 + 161) = some u.toNat := by
          unfold two
          rw [if_pos ⟨rfl, h2.1⟩, haR_kana (n := 0) (by omega) (by omega), show 65377 + (u.toNat - 65377 + 161 - 161) = u.toNat by omega]
        rw [e4]
        simp only [Prod.mk.injEq, true_and]
        omega
      · rw [if_neg h2] at h
        have e : (11 : Int) = 0 := congrArg Prod.fst h
        omega
/-- The ways of Get; what is read is written. -/
theorem got_ways {k : Int} (hk : has k = true) (L : List UInt8) : gE k L = (1, 0, 0, 0) ∨ (∃ n : Nat, gE k L = (10, (n : Int), 0, 0) ∧ 1 ≤ n ∧ n ≤ 2 ∧ n ≤ L.length) ∨ ∃ (n u : Nat) (bs : List UInt8), gE k L = (0, (n : Int), 1, (u : Int)) ∧ u ≤ 65535 ∧ sE k (u : Int) = (0, bs) := by
  unfold gE
  rw [hk, if_neg (by simp)]
  cases L with
  | nil => exact .inl rfl
  | cons b r =>
    simp only
    have hb := b.toNat_lt
    by_cases h1 : b.toNat < 128
    · rw [if_pos h1]
      refine .inr (.inr ⟨1, b.toNat, [b8 b.toNat], rfl, by omega, ?_⟩)
      unfold sE
      rw [hk, if_neg (by simp), if_pos (by omega), Int.toNat_natCast]
    · rw [if_neg h1]
      by_cases h2 : ¬ (b.toNat = 142 ∧ k = 81) ∧ (b.toNat < 161 ∨ 254 < b.toNat)
      · rw [if_pos h2]
        exact .inr (.inl ⟨1, rfl, by omega, by omega, by simp⟩)
      · rw [if_neg h2]
        cases r with
        | nil => exact .inl rfl
        | cons c r =>
          have hc := c.toNat_lt
          simp only
          unfold gE2
          by_cases h3 : c.toNat < 161 ∨ 254 < c.toNat ∨ ((b.toNat = 142 ∧ k = 81) ∧ 223 < c.toNat)
          · rw [if_pos h3]
            exact .inr (.inl ⟨1, rfl, by omega, by omega, by simp⟩)
          · rw [if_neg h3]
            cases ht : two k b.toNat c.toNat with
            | none => exact .inr (.inl ⟨2, rfl, by omega, by omega, by simp⟩)
            | some u =>
              simp only
              unfold two at ht
              by_cases h4 : b.toNat = 142 ∧ k = 81
              · rw [if_pos h4, haR_kana (n := 0) (by omega) (by omega)] at ht
                have hu := Option.some.inj ht
                cases ep : epl k (u : Int) with
                | mk A q =>
                obtain ⟨B, ok⟩ := q
                refine .inr (.inr ⟨2, u, ?_⟩)
                cases ok with
                | true =>
                  refine ⟨[b8 (A + 160), b8 (B + 160)], rfl, by omega, ?_⟩
                  unfold sE
                  rw [hk, if_neg (by simp), if_neg (by omega), ep]
                | false =>
                  refine ⟨[b8 142, b8 ((u : Int).toNat - 65377 + 161)], rfl, by omega, ?_⟩
                  unfold sE
                  rw [hk, if_neg (by simp), if_neg (by omega), ep]
                  simp only
                  rw [if_pos ⟨h4.2, by omega, by omega⟩]
              · rw [if_neg h4] at ht
                obtain ⟨x, hx⟩ : ∃ x : Nat, b.toNat = x + 161 := ⟨b.toNat - 161, by omega⟩
                obtain ⟨y, hy⟩ : ∃ y : Nat, c.toNat = y + 161 := ⟨c.toNat - 161, by omega⟩
                rw [show (b.toNat : Int) - 160 = (x : Int) + 1 by omega, show (c.toNat : Int) - 160 = (y : Int) + 1 by omega] at ht
                obtain ⟨A, B, ep⟩ := esc_epl (by omega) (by omega) ht
                by_cases h5 : (u : Int) < 128
                · refine .inr (.inr ⟨2, u, [b8 (u : Int).toNat], rfl, by omega, ?_⟩)
                  unfold sE
                  rw [hk, if_neg (by simp), if_pos (by omega)]
                · refine .inr (.inr ⟨2, u, [b8 (A + 160), b8 (B + 160)], rfl, ?_, ?_⟩)
                  · unfold esc at ht
                    split at ht
                    · exact (C14.scP_small ht).1
                    · split at ht
                      · exact (C15.scP_small ht).1
                      · exact (C16.scP_small ht).1
                  · unfold sE
                    rw [hk, if_neg (by simp), if_neg (by omega), ep]
/-- What Set writes: one byte for what is below 128, two that are not below it for the others. -/
theorem set_ways {k u : Int} (hk : has k = true) : (0 ≤ u ∧ u < 128 ∧ sE k u = (0, [b8 u.toNat])) ∨ (¬ (0 ≤ u ∧ u < 128) ∧ (sE k u = (11, []) ∨ ∃ x y : Nat, sE k u = (0, [b8 x, b8 y]) ∧ 128 ≤ x ∧ x < 256 ∧ 128 ≤ y ∧ y < 256)) := by
  unfold sE
  rw [hk, if_neg (by simp)]
  by_cases h1 : 0 ≤ u ∧ u < 128
  · rw [if_pos h1]
    exact .inl ⟨h1.1, h1.2, rfl⟩
  · rw [if_neg h1]
    refine .inr ⟨h1, ?_⟩
    cases ep : epl k u with
    | mk r q =>
    obtain ⟨c, ok⟩ := q
    cases ok with
    | true =>
      obtain ⟨r1, r2, c1, c2, u0, he⟩ := epl_back ep
      exact .inr ⟨r + 160, c + 160, rfl, by omega, by omega, by omega, by omega⟩
    | false =>
      simp only
      by_cases h2 : k = 81 ∧ 65377 ≤ u ∧ u ≤ 65439
      · rw [if_pos h2]
        exact .inr ⟨142, u.toNat - 65377 + 161, rfl, by omega, by omega, by omega, by omega⟩
      · rw [if_neg h2]
        exact .inl rfl
end Go.Proofs.Ytcbjkamjkaiofaa.C17
