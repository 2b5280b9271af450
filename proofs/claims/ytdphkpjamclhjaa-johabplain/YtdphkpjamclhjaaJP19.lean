/- Layer 19, plain: codes of syllables; what Get and Set answer; what is written is read again. -/
import Derived.Test.YtdphkpjamclhjaaRK16
import Derived.Test.YtdphkpjamclhjaaSp
namespace Go.Proofs.Ytdphkpjamclhjaa.C19
open Go.RowKit Go.Proofs.Ytdphkpjamclhjaa.Mem Go.Proofs.Ytdphkpjamclhjaa.Sp
set_option linter.unusedVariables false

theorem gt {a b c : World} {row : Option Nat} (h : a.grownBy b row) (k : b.grownBy c row) : a.grownBy c row := grownBy_trans h k
def mids : List Nat := [3, 4, 5, 6, 7, 10, 11, 12, 13, 14, 15, 18, 19, 20, 21, 22, 23, 26, 27, 28, 29]
def lsts : List Nat := [1, 2, 3, 4, 5, 6, 7, 8, 9, 10, 11, 12, 13, 14, 15, 16, 17, 19, 20, 21, 22, 23, 24, 25, 26, 27, 28, 29]
def md (m : Nat) : Nat := mids.getD m 0
def ls (l : Nat) : Nat := lsts.getD l 0
/-- The place of a number in a list; -1 where it is not there. -/
def plc (L : List Nat) (n : Nat) : Int := match L.findIdx? (fun x => x == n) with | some i => (i : Int) | none => -1
def code (f m l : Nat) : Nat := 32768 + (f + 2) * 1024 + md m * 32 + ls l
/-- What Pack and Unpack answer. -/
def pkT (f m l : Int) : Int × Bool := if C16.In3 f m l then ((code f.toNat m.toNat l.toNat : Nat), true) else (0, false)
def upA (n : Nat) : Int := ((n / 1024 : Nat) : Int) - 2
def upB (n : Nat) : Int := plc mids (n / 32 % 32)
def upL (n : Nat) : Int := plc lsts (n % 32)
def upT (c : Int) : Int × Int × Int × Bool := if 32768 ≤ c ∧ c ≤ 65535 then (if C16.In3 (upA (c - 32768).toNat) (upB (c - 32768).toNat) (upL (c - 32768).toNat) then (upA (c - 32768).toNat, upB (c - 32768).toNat, upL (c - 32768).toNat, true) else (0, 0, 0, false)) else (0, 0, 0, false)
theorem md_lt : ∀ m, m < 21 → md m < 32 ∧ plc mids (md m) = (m : Int) := by decide +kernel
theorem ls_lt : ∀ l, l < 28 → ls l < 32 ∧ 1 ≤ ls l ∧ plc lsts (ls l) = (l : Int) := by decide +kernel
theorem pl_md : ∀ x, x < 32 → 0 ≤ plc mids x → md (plc mids x).toNat = x ∧ (plc mids x).toNat < 21 := by decide +kernel
theorem pl_ls : ∀ x, x < 32 → 0 ≤ plc lsts x → ls (plc lsts x).toNat = x ∧ (plc lsts x).toNat < 28 := by decide +kernel
theorem in3_nat {f m l : Int} (h : C16.In3 f m l) : ∃ a b c : Nat, f = (a : Int) ∧ m = (b : Int) ∧ l = (c : Int) ∧ a ≤ 18 ∧ b ≤ 20 ∧ c ≤ 27 := by
  unfold C16.In3 at h
  exact ⟨f.toNat, m.toNat, l.toNat, by omega, by omega, by omega, by omega, by omega, by omega⟩
theorem nat_in3 {a b c : Nat} (h1 : a ≤ 18) (h2 : b ≤ 20) (h3 : c ≤ 27) : C16.In3 (a : Int) (b : Int) (c : Int) := by unfold C16.In3; omega
theorem code_lt {a b c : Nat} (h1 : a ≤ 18) (h2 : b ≤ 20) (h3 : c ≤ 27) : 32768 ≤ code a b c ∧ code a b c ≤ 65535 ∧ 34816 ≤ code a b c := by
  have e1 := (md_lt b (by omega)).1
  have e2 := (ls_lt c (by omega)).1
  unfold code
  omega
theorem up_of {a b c : Nat} (h1 : a ≤ 18) (h2 : b ≤ 20) (h3 : c ≤ 27) : upT (code a b c : Int) = ((a : Int), (b : Int), (c : Int), true) := by
  obtain ⟨e1, e2⟩ := md_lt b (by omega)
  obtain ⟨e3, _, e4⟩ := ls_lt c (by omega)
  obtain ⟨k1, k2, _⟩ := code_lt h1 h2 h3
  have hn : ((code a b c : Int) - 32768).toNat = (a + 2) * 1024 + md b * 32 + ls c := by unfold code; omega
  have q1 : ((a + 2) * 1024 + md b * 32 + ls c) / 1024 = a + 2 := by omega
  have q2 : ((a + 2) * 1024 + md b * 32 + ls c) / 32 % 32 = md b := by omega
  have q3 : ((a + 2) * 1024 + md b * 32 + ls c) % 32 = ls c := by omega
  have f1 : upA ((a + 2) * 1024 + md b * 32 + ls c) = (a : Int) := by unfold upA; rw [q1]; omega
  have f2 : upB ((a + 2) * 1024 + md b * 32 + ls c) = (b : Int) := by unfold upB; rw [q2]; exact e2
  have f3 : upL ((a + 2) * 1024 + md b * 32 + ls c) = (c : Int) := by unfold upL; rw [q3]; exact e4
  unfold upT
  rw [if_pos ⟨by omega, by omega⟩, hn, f1, f2, f3, if_pos (nat_in3 h1 h2 h3)]
theorem of_up {c : Int} {x y z : Int} (h : upT c = (x, y, z, true)) : ∃ a b d : Nat, x = (a : Int) ∧ y = (b : Int) ∧ z = (d : Int) ∧ a ≤ 18 ∧ b ≤ 20 ∧ d ≤ 27 ∧ c = (code a b d : Int) := by
  unfold upT at h
  split at h
  · rename_i hc
    split at h
    · rename_i hi
      simp only [Prod.mk.injEq] at h
      obtain ⟨rfl, rfl, rfl, _⟩ := h
      obtain ⟨a, b, d, e1, e2, e3, k1, k2, k3⟩ := in3_nat hi
      refine ⟨a, b, d, e1, e2, e3, k1, k2, k3, ?_⟩
      have g1 : (c - 32768).toNat / 1024 = a + 2 := by unfold upA at e1; omega
      have g2 := pl_md ((c - 32768).toNat / 32 % 32) (by omega) (by unfold upB at e2; omega)
      have g3 := pl_ls ((c - 32768).toNat % 32) (by omega) (by unfold upL at e3; omega)
      have g4 : (plc mids ((c - 32768).toNat / 32 % 32)).toNat = b := by unfold upB at e2; omega
      have g5 : (plc lsts ((c - 32768).toNat % 32)).toNat = d := by unfold upL at e3; omega
      rw [g4] at g2
      rw [g5] at g3
      unfold code
      omega
    · have : false = true := congrArg (fun p => p.2.2.2) h
      cases this
  · have : false = true := congrArg (fun p => p.2.2.2) h
    cases this
theorem up_no {c : Int} (h : (upT c).2.2.2 = false) : upT c = (0, 0, 0, false) := by
  unfold upT at h ⊢
  split
  · rename_i h1
    rw [if_pos h1] at h
    split
    · rename_i h2
      rw [if_pos h2] at h
      cases h
    · rfl
  · rfl
/-- Does a code begin with a byte? -/
def bgR (b : Nat) : Bool := (List.range 256).any (fun i => (upT ((b * 256 + i : Nat) : Int)).2.2.2)
theorem bg_of {b c : Nat} (hc : c < 256) (h : (upT ((b * 256 + c : Nat) : Int)).2.2.2 = true) : bgR b = true := by
  unfold bgR
  rw [List.any_eq_true]
  exact ⟨c, List.mem_range.2 hc, h⟩
def syN (a b c : Nat) : Nat := 44032 + a * 588 + b * 28 + c
/-- What Get answers: the error, N, K, A. -/
def gE2 (b c : Nat) : Int × Int × Int × Int := match upT ((b * 256 + c : Nat) : Int) with
  | (x, y, z, true) => (0, 2, 1, C16.syV x y z)
  | (_, _, _, false) => (10, 2, 0, 0)
def gE (L : List UInt8) : Int × Int × Int × Int := match L with
  | [] => (1, 0, 0, 0)
  | b :: r => if b.toNat = 92 then (0, 1, 1, 8361) else if b.toNat < 128 then (0, 1, 1, (b.toNat : Int)) else if bgR b.toNat = false then (10, 1, 0, 0) else match r with
    | [] => (1, 0, 0, 0)
    | c :: _ => gE2 b.toNat c.toNat
def gotV (p : Int × Int × Int × Int) : Value := gV p.1 p.2.1 p.2.2.1 p.2.2.2
def cdN (n : Nat) : Nat := code (n / 588) (n % 588 / 28) (n % 28)
/-- What Set answers: the error, the bytes. -/
def sE (u : Int) : Int × List UInt8 := if u = 8361 then (0, [b8 92]) else if 0 ≤ u ∧ u < 128 ∧ u ≠ 92 then (0, [b8 u.toNat]) else if C16.InS u then (0, [b8 (cdN (u - 44032).toNat / 256), b8 (cdN (u - 44032).toNat % 256)]) else (11, [])
def putV (p : Int × List UInt8) : Value := pV p.1 (str p.2)
theorem cdN_is {n : Nat} (h : n ≤ 11171) : 34816 ≤ cdN n ∧ cdN n ≤ 65535 ∧ upT (cdN n : Int) = (((n / 588 : Nat) : Int), ((n % 588 / 28 : Nat) : Int), ((n % 28 : Nat) : Int), true) := by
  have h1 : n / 588 ≤ 18 := by omega
  have h2 : n % 588 / 28 ≤ 20 := by omega
  have h3 : n % 28 ≤ 27 := by omega
  obtain ⟨_, k2, k3⟩ := code_lt h1 h2 h3
  exact ⟨k3, k2, up_of h1 h2 h3⟩
theorem sy_back (n : Nat) : C16.syV ((n / 588 : Nat) : Int) ((n % 588 / 28 : Nat) : Int) ((n % 28 : Nat) : Int) = (n : Int) + 44032 := by
  unfold C16.syV
  have : n % 588 % 28 = n % 28 := by omega
  omega
theorem gE_two {b c : Nat} (hc : c < 256) (hb : b < 256) (h128 : 128 ≤ b) {x y z : Int} (h : upT ((b * 256 + c : Nat) : Int) = (x, y, z, true)) (M : List UInt8) : gE (b8 b :: b8 c :: M) = (0, 2, 1, C16.syV x y z) := by
  unfold gE
  simp only [b8_toNat hb, b8_toNat hc]
  rw [if_neg (by omega), if_neg (by omega), if_neg (by rw [bg_of hc (by rw [h])]; simp)]
  unfold gE2
  rw [h]
theorem back_plain {u : Int} {bs : List UInt8} (h : sE u = (0, bs)) (M : List UInt8) : gE (bs ++ M) = (0, (bs.length : Int), 1, u) := by
  unfold sE at h
  by_cases h1 : u = 8361
  · rw [if_pos h1] at h
    have e : [b8 92] = bs := congrArg Prod.snd h
    subst e
    unfold gE
    simp only [List.cons_append, List.nil_append, b8_toNat (show 92 < 256 by omega), List.length_cons, List.length_nil]
    rw [if_pos trivial, h1]
    rfl
  · rw [if_neg h1] at h
    by_cases h2 : 0 ≤ u ∧ u < 128 ∧ u ≠ 92
    · rw [if_pos h2] at h
      have e : [b8 u.toNat] = bs := congrArg Prod.snd h
      subst e
      unfold gE
      simp only [List.cons_append, List.nil_append, b8_toNat (show u.toNat < 256 by omega), List.length_cons, List.length_nil]
      rw [if_neg (by omega), if_pos (by omega)]
      simp only [Prod.mk.injEq, true_and]
      omega
    · rw [if_neg h2] at h
      by_cases h3 : C16.InS u
      · rw [if_pos h3] at h
        have e : [b8 (cdN (u - 44032).toNat / 256), b8 (cdN (u - 44032).toNat % 256)] = bs := congrArg Prod.snd h
        subst e
        have h4 : (u - 44032).toNat ≤ 11171 := by unfold C16.InS at h3; omega
        obtain ⟨k1, k2, k3⟩ := cdN_is h4
        have e4 : ((cdN (u - 44032).toNat / 256 * 256 + cdN (u - 44032).toNat % 256 : Nat) : Int) = (cdN (u - 44032).toNat : Int) := by omega
        have := gE_two (b := cdN (u - 44032).toNat / 256) (c := cdN (u - 44032).toNat % 256) (by omega) (by omega) (by omega) (by rw [e4]; exact k3) M
        simp only [List.cons_append, List.nil_append]
        rw [this, sy_back]
        simp only [Prod.mk.injEq, true_and, List.length_cons, List.length_nil]
        unfold C16.InS at h3
        omega
      · rw [if_neg h3] at h
        have e : (11 : Int) = 0 := congrArg Prod.fst h
        omega
/-- The ways of Get; what is read is written as the bytes that it was. -/
theorem got_ways (L : List UInt8) : gE L = (1, 0, 0, 0) ∨ (∃ n : Nat, gE L = (10, (n : Int), 0, 0) ∧ 1 ≤ n ∧ n ≤ 2 ∧ n ≤ L.length) ∨ ∃ (n u : Nat), gE L = (0, (n : Int), 1, (u : Int)) ∧ u ≤ 65535 ∧ 1 ≤ n ∧ n ≤ 2 ∧ n ≤ L.length ∧ sE (u : Int) = (0, L.take n) := by
  unfold gE
  cases L with
  | nil => exact .inl rfl
  | cons b r =>
    have hb := b.toNat_lt
    simp only
    by_cases h1 : b.toNat = 92
    · rw [if_pos h1]
      refine .inr (.inr ⟨1, 8361, rfl, by omega, by omega, by omega, by simp, ?_⟩)
      unfold sE
      have e8 : b8 92 = b := by rw [← h1, b8_of]
      rw [if_pos (by decide), e8]
      rfl
    · rw [if_neg h1]
      by_cases h2 : b.toNat < 128
      · rw [if_pos h2]
        refine .inr (.inr ⟨1, b.toNat, rfl, by omega, by omega, by omega, by simp, ?_⟩)
        unfold sE
        rw [if_neg (by omega), if_pos (by omega), Int.toNat_natCast, b8_of]
        rfl
      · rw [if_neg h2]
        cases hg : bgR b.toNat with
        | false =>
          rw [if_pos rfl]
          exact .inr (.inl ⟨1, rfl, by omega, by omega, by simp⟩)
        | true =>
          rw [if_neg (by simp)]
          cases r with
          | nil => exact .inl rfl
          | cons c r =>
            have hc := c.toNat_lt
            simp only
            unfold gE2
            cases hu : upT ((b.toNat * 256 + c.toNat : Nat) : Int) with
            | mk x q =>
            obtain ⟨y, z, ok⟩ := q
            cases ok with
            | false => exact .inr (.inl ⟨2, rfl, by omega, by omega, by simp⟩)
            | true =>
              obtain ⟨a, b', d, rfl, rfl, rfl, k1, k2, k3, hcd⟩ := of_up hu
              have hsy : C16.syV (a : Int) (b' : Int) (d : Int) = ((44032 + (a * 588 + b' * 28 + d) : Nat) : Int) := by unfold C16.syV; omega
              refine .inr (.inr ⟨2, 44032 + (a * 588 + b' * 28 + d), ?_, by omega, by omega, by omega, by simp, ?_⟩)
              · simp only
                rw [hsy]
                rfl
              · unfold sE
                rw [if_neg (by omega), if_neg (by omega), if_pos (by unfold C16.InS; omega)]
                have e1 : (((44032 + (a * 588 + b' * 28 + d) : Nat) : Int) - 44032).toNat = a * 588 + b' * 28 + d := by omega
                have e2 : cdN (a * 588 + b' * 28 + d) = b.toNat * 256 + c.toNat := by
                  unfold cdN
                  rw [show (a * 588 + b' * 28 + d) / 588 = a by omega, show (a * 588 + b' * 28 + d) % 588 / 28 = b' by omega, show (a * 588 + b' * 28 + d) % 28 = d by omega]
                  omega
                rw [e1, e2, show (b.toNat * 256 + c.toNat) / 256 = b.toNat by omega, show (b.toNat * 256 + c.toNat) % 256 = c.toNat by omega, b8_of, b8_of]
                rfl
theorem se_two (u : Int) : sE u = (11, []) ∨ ∃ bs, sE u = (0, bs) ∧ bs.length ≤ 2 := by
  unfold sE
  split
  · exact .inr ⟨_, rfl, by simp⟩
  · split
    · exact .inr ⟨_, rfl, by simp⟩
    · split
      · exact .inr ⟨_, rfl, by simp⟩
      · exact .inl rfl
/-- Codes of one first part rise. -/
theorem cd_rise : ∀ i, i < 587 → md (i / 28) * 32 + ls (i % 28) < md ((i + 1) / 28) * 32 + ls ((i + 1) % 28) := by decide +kernel
theorem cdN_rise {f i : Nat} (hf : f ≤ 18) (hi : i < 587) : cdN (f * 588 + i) < cdN (f * 588 + (i + 1)) := by
  have e1 : (f * 588 + i) / 588 = f := by omega
  have e2 : (f * 588 + i) % 588 / 28 = i / 28 := by omega
  have e3 : (f * 588 + i) % 28 = i % 28 := by omega
  have e4 : (f * 588 + (i + 1)) / 588 = f := by omega
  have e5 : (f * 588 + (i + 1)) % 588 / 28 = (i + 1) / 28 := by omega
  have e6 : (f * 588 + (i + 1)) % 28 = (i + 1) % 28 := by omega
  unfold cdN
  rw [e1, e2, e3, e4, e5, e6]
  have := cd_rise i hi
  unfold code
  omega
end Go.Proofs.Ytdphkpjamclhjaa.C19
