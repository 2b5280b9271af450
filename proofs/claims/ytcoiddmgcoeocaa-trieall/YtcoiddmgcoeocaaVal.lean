/- Digits and their value: a scalar's writing is read again as that scalar; plain, no program. -/
import Derived.Test.YtcoiddmgcoeocaaPlain
namespace Go.Proofs.Ytcoiddmgcoeocaa.Ucs

/-- The number of a digit; -1: it is none. -/
def dv (c : UInt8) : Int := if 48 ≤ c.toNat ∧ c.toNat ≤ 57 then (c.toNat : Int) - 48 else if 65 ≤ c.toNat ∧ c.toNat ≤ 70 then (c.toNat : Int) - 55 else -1
def dv0 (c : UInt8) : Int := if dv c < 0 then 0 else dv c
def valFrom (a : Int) : List UInt8 → Int
  | [] => a
  | c :: l => valFrom (16 * a + dv0 c) l
def lowL : Nat → Int → List UInt8
  | 0, _ => []
  | k + 1, u => dig (u / 16 ^ k % 16).toNat :: lowL k u

theorem low_list : ∀ (k : Nat) (u : Int), (low k u).data.toList = lowL k u
  | 0, _ => rfl
  | k + 1, u => by rw [low, lowL, ByteArray.data_append, Array.toList_append, low_list k u]; rfl
theorem lowL_length : ∀ (k : Nat) (u : Int), (lowL k u).length = k
  | 0, _ => rfl
  | k + 1, u => by rw [lowL, List.length_cons, lowL_length k u]
theorem dv_dig (n : Nat) (h : n < 16) : dv (dig n) = n := by
  have hall : ∀ i : Fin 16, dv (dig i.val) = i.val := by decide
  exact hall ⟨n, h⟩
theorem dv0_dig (n : Nat) (h : n < 16) : dv0 (dig n) = n := by
  unfold dv0; rw [dv_dig n h, if_neg (by omega)]
theorem dv_le (c : UInt8) : dv c ≤ 15 := by unfold dv; split <;> (try split) <;> omega
theorem dv_ge (c : UInt8) : -1 ≤ dv c := by unfold dv; split <;> (try split) <;> omega
theorem dv0_bd (c : UInt8) : 0 ≤ dv0 c ∧ dv0 c ≤ 15 := by have := dv_le c; unfold dv0; split <;> omega
theorem dv0_of {c : UInt8} (h : 0 ≤ dv c) : dv0 c = dv c := by unfold dv0; rw [if_neg (by omega)]
theorem lowL_dv : ∀ (k : Nat) (u : Int), ∀ c ∈ lowL k u, 0 ≤ dv c
  | 0, _, c, h => by cases h
  | k + 1, u, c, h => by
    rw [lowL, List.mem_cons] at h
    rcases h with h | h
    · rw [h, dv_dig _ (by omega)]; omega
    · exact lowL_dv k u c h
theorem emod_step (u : Int) (k : Nat) : u % 16 ^ (k + 1) = u / 16 ^ k % 16 * 16 ^ k + u % 16 ^ k := by
  have h1 := Int.mul_ediv_add_emod u (16 ^ k)
  have h2 := Int.mul_ediv_add_emod u (16 ^ (k + 1))
  have h3 := div_step u k
  have h4 := Int.mul_ediv_add_emod (u / 16 ^ k) 16
  rw [h3] at h4
  have h5 : (16 : Int) ^ (k + 1) = 16 ^ k * 16 := Int.pow_succ 16 k
  rw [h5] at h2 ⊢
  generalize u / 16 ^ k % 16 = d at *
  generalize u % 16 ^ k = r at *
  rw [h5] at h4
  generalize u % (16 ^ k * 16) = r' at *
  generalize u / (16 ^ k * 16) = q' at *
  generalize (16 : Int) ^ k = p at *
  rw [← h4, Int.mul_add] at h1
  have e1 : p * 16 * q' = p * (16 * q') := Int.mul_assoc p 16 q'
  have e2 : d * p = p * d := Int.mul_comm d p
  omega
theorem valFrom_low : ∀ (k : Nat) (a u : Int), valFrom a (lowL k u) = a * 16 ^ k + u % 16 ^ k
  | 0, a, u => by simp [lowL, valFrom, Int.emod_one]
  | k + 1, a, u => by
    rw [lowL, valFrom, valFrom_low k, dv0_dig _ (by omega), emod_step u k]
    have h5 : (16 : Int) ^ (k + 1) = 16 ^ k * 16 := Int.pow_succ 16 k
    have hd : ((u / 16 ^ k % 16).toNat : Int) = u / 16 ^ k % 16 := Int.toNat_of_nonneg (by omega)
    rw [hd, h5]
    generalize u / 16 ^ k % 16 = d
    generalize u % 16 ^ k = r
    generalize (16 : Int) ^ k = p
    have e1 : (16 * a + d) * p = 16 * a * p + d * p := Int.add_mul _ _ _
    have e2 : 16 * a * p = a * (p * 16) := by rw [Int.mul_comm 16 a, Int.mul_assoc, Int.mul_comm 16 p]
    omega
theorem lt_pow_cnt {u : Int} (h1 : u ≤ 1114111) : u < 16 ^ cnt u := by
  rcases cnt_cases u with ⟨e, h⟩ | ⟨e, h, k⟩ | ⟨e, h⟩ <;> rw [e] <;> simp <;> omega
theorem val_low {u : Int} (hu : scB u = true) : valFrom 0 (lowL (cnt u) u) = u := by
  obtain ⟨h0, h1, _⟩ := scB_iff.1 hu
  rw [valFrom_low, Int.zero_mul, Int.zero_add, Int.emod_eq_of_lt h0 (lt_pow_cnt h1)]
theorem hex_list {u : Int} (hu : scB u = true) : (hex u).data.toList = 85 :: 43 :: lowL (cnt u) u := by
  unfold hex; rw [if_pos hu, ByteArray.data_append, Array.toList_append, low_list]; rfl
theorem hex_size {u : Int} (hu : scB u = true) : (hex u).size = 2 + cnt u := by
  unfold hex; rw [if_pos hu, ByteArray.size_append, low_size]; rfl
theorem hex_inj {u v : Int} (hu : scB u = true) (hv : scB v = true) (h : hex u = hex v) : u = v := by
  have e := congrArg (fun s : ByteArray => s.data.toList) h
  simp only [hex_list hu, hex_list hv, List.cons.injEq, true_and] at e
  rw [← val_low hu, ← val_low hv, e]
theorem cnt_mono {u v : Int} (h : u ≤ v) : cnt u ≤ cnt v := by
  have a := cnt_cases u
  have b := cnt_cases v
  omega
theorem valFrom_append : ∀ (l m : List UInt8) (a : Int), valFrom a (l ++ m) = valFrom (valFrom a l) m
  | [], _, _ => rfl
  | c :: l, m, a => by rw [List.cons_append, valFrom, valFrom, valFrom_append l m]
theorem valFrom_bd : ∀ (l : List UInt8) (a : Int), 0 ≤ a → 0 ≤ valFrom a l ∧ valFrom a l < (a + 1) * 16 ^ l.length
  | [], a, h => by simp [valFrom]; omega
  | c :: l, a, h => by
    have hb := dv0_bd c
    have ih := valFrom_bd l (16 * a + dv0 c) (by omega)
    rw [valFrom, List.length_cons, Int.pow_succ]
    refine ⟨ih.1, Int.lt_of_lt_of_le ih.2 ?_⟩
    rw [Int.mul_comm (16 ^ l.length) 16, ← Int.mul_assoc]
    exact Int.mul_le_mul_of_nonneg_right (by omega) (Int.pow_nonneg (by omega))

/-- What reading a text comes to: a scalar whose writing it is, or none. -/
def Reads (s : ByteArray) (v : Int) (ok : Bool) : Prop := (ok = true ∧ scB v = true ∧ hex v = s) ∨ (ok = false ∧ v = 0 ∧ ∀ u, scB u = true → hex u ≠ s)
theorem Reads.one {s : ByteArray} {v v' : Int} {ok ok' : Bool} (h : Reads s v ok) (h' : Reads s v' ok') : v = v' ∧ ok = ok' := by
  rcases h with ⟨a, b, c⟩ | ⟨a, b, c⟩ <;> rcases h' with ⟨a', b', c'⟩ | ⟨a', b', c'⟩
  · exact ⟨hex_inj b b' (c.trans c'.symm), a.trans a'.symm⟩
  · exact absurd c (c' v b)
  · exact absurd c' (c v' b')
  · exact ⟨b.trans b'.symm, a.trans a'.symm⟩
end Go.Proofs.Ytcoiddmgcoeocaa.Ucs
