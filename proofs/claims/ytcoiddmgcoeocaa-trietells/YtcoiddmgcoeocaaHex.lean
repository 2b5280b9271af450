/- What ucs.Hex and its twin answer: walks. -/
import Derived.Test.YtcoiddmgcoeocaaJoins
namespace Go.Proofs.Ytcoiddmgcoeocaa.Ucs
open Go.ChangeShapes Go.WideShapes Go.ChangeAt Go.RowKit

theorem tab_get : ∀ (n : Nat) (h : n < (⟨#[48, 49, 50, 51, 52, 53, 54, 55, 56, 57, 65, 66, 67, 68, 69, 70]⟩ : ByteArray).size), ((⟨#[48, 49, 50, 51, 52, 53, 54, 55, 56, 57, 65, 66, 67, 68, 69, 70]⟩ : ByteArray)[n]'h) = dig n := by
  intro n h
  have h' : n < 16 := h
  have hall : ∀ i : Fin 16, (⟨#[48, 49, 50, 51, 52, 53, 54, 55, 56, 57, 65, 66, 67, 68, 69, 70]⟩ : ByteArray)[i.val]'i.isLt = dig i.val := by decide
  exact hall ⟨n, h'⟩
theorem enc_dig (n : Nat) (h : n < 16) : Utf8.encode ((dig n).toNat : Int) = digS n := by
  have hall : ∀ i : Fin 16, Utf8.encode ((dig i.val).toNat : Int) = digS i.val := by decide
  exact hall ⟨n, h⟩
theorem tab_cut (n : Nat) (h : n < 16) : (⟨#[48, 49, 50, 51, 52, 53, 54, 55, 56, 57, 65, 66, 67, 68, 69, 70]⟩ : ByteArray).extract n (n + 1) = digS n := by
  have hall : ∀ i : Fin 16, (⟨#[48, 49, 50, 51, 52, 53, 54, 55, 56, 57, 65, 66, 67, 68, 69, 70]⟩ : ByteArray).extract i.val (i.val + 1) = digS i.val := by decide
  exact hall ⟨n, h⟩
def szOf : Value → Nat
  | .string s => s.size
  | _ => 0
theorem ret_str {a b : ByteArray} (h : a = b) : Ending.returned (.string a) = .returned (.string b) := by rw [h]

theorem hexRef_no (u : Int) (w : World) (hu : scB u = false) : Calls Try.prog 44 #[.int .i32 u] w fun e w' => e = .returned (.string (hex u)) ∧ w' = w := by
  have hh : hex u = ⟨#[]⟩ := by simp [hex, hu]
  rw [hh]; clear hh
  go_enter Try.func44, Try.ntmps44
  go_wp2_with (go_at_call 23; refine (scalar_ref _ _).mono ?_; rintro e w' ⟨rfl, rfl⟩)
  go_ret
  exact ⟨rfl, rfl⟩

set_option maxHeartbeats 400000 in
theorem hexRef_yes (u : Int) (w : World) (hu : scB u = true) : Calls Try.prog 44 #[.int .i32 u] w fun e w' => e = .returned (.string (hex u)) ∧ w' = w := by
  obtain ⟨h0, h1, _⟩ := scB_iff.1 hu
  have hh : hex u = ⟨#[85, 43]⟩ ++ low (cnt u) u := by simp [hex, hu]
  rw [hh]; clear hh
  go_enter Try.func44, Try.ntmps44
  go_wp2_with (go_at_call 23; refine (scalar_ref _ _).mono ?_; rintro e w' ⟨rfl, rfl⟩)
  go_loop [3, 4] (fun d r => ∃ k : Nat, k ≤ cnt u ∧ d = .string (low k u) ∧ r = .int .i64 (u / 16 ^ k)) (fun d _ => 6 - szOf d)
  case atStart => exact ⟨0, by omega, rfl, by simp⟩
  case round =>
    obtain ⟨k, hk, rfl, rfl⟩ := hrel
    have h6 := cnt_le u
    have hsz := low_size k u
    have r0 : 0 ≤ u / 16 ^ k := Int.ediv_nonneg h0 (Int.pow_nonneg (by omega))
    have r1 : u / 16 ^ k ≤ 1114111 := Int.le_trans (Int.ediv_le_self _ h0) h1
    have hS : Hid (0 < u / 16 ^ k ∨ k < 4 → k + 1 ≤ cnt u) := fun h => step_lt (k := k) h1 hk h
    have hE : Hid (¬ 0 < u / 16 ^ k → ¬ k < 4 → k = cnt u) := fun h h' => stop_eq (k := k) hk h h'
    have hD : Hid (u / 16 ^ k / 16 = u / 16 ^ (k + 1)) := div_step u k
    have hL : Hid (low (k + 1) u = digS (u / 16 ^ k % 16).toNat ++ low k u) := rfl
    generalize u / 16 ^ k = r at *
    by_cases c : 0 < r
    · have ht := tab_cut (r % 16).toNat (by omega)
      rw [show (r % 16).toNat + 1 = (r % 16 + 1).toNat from by omega] at ht
      have hs1 := digS_size (r % 16).toNat
      go_wp2
      go_round
      case rel => exact ⟨k + 1, hS.out (.inl c), by rw [hL.out], by rw [hD.out]⟩
      case measure => have := hS.out (.inl c); simp [szOf, ByteArray.size_append]; omega
    obtain rfl : r = 0 := by omega
    clear c r0 r1
    by_cases c4 : k < 4
    · have ht := tab_cut 0 (by omega)
      have hs1 := digS_size 0
      go_wp2
      go_round
      case rel => exact ⟨k + 1, hS.out (.inr c4), by rw [hL.out]; rfl, by rw [← hD.out]; rfl⟩
      case measure => have := hS.out (.inr c4); simp [szOf, ByteArray.size_append]; omega
    · go_wp2
      go_ret
      exact ⟨ret_str (by rw [hE.out (by omega) c4]), rfl⟩
theorem hexRef_any (u : Int) (w : World) : Calls Try.prog 44 #[.int .i32 u] w fun e w' => e = .returned (.string (hex u)) ∧ w' = w := by
  cases h : scB u
  · exact hexRef_no u w h
  · exact hexRef_yes u w h
end Go.Proofs.Ytcoiddmgcoeocaa.Ucs
