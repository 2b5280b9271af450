/- The document's number and its step of one order: walks. -/
import Derived.Test.YtkfcciacoplgmaaRefSmall
import Derived.Test.YtkfcciacoplgmaaStep
import Derived.Deep.RegionHeld3
import Derived.BigQuiet
namespace Go.Proofs.Ytkfcciacoplgmaa.Wd
open Go.ChangeShapes Go.WideShapes Go.ChangeAt Go.RowKit Go.Proofs.Ytkfcciacoplgmaa.Mem Go.Proofs.Ytkfcciacoplgmaa.Ucs
set_option linter.unusedVariables false
set_option linter.unusedSimpArgs false

set_option maxRecDepth 100000 in
set_option maxHeartbeats 4000000 in
theorem numberR_hi (n : Nat) (h1 : 1 ≤ n) (h4 : n ≤ 4) (ao : Option Addr) (cap : Nat) (L : List UInt8) (w : World) (hB : Bytes w ao L) (hl : n ≤ L.length) (hx : L.length ≤ 140737488355328) :
    Calls Try.prog 25 #[.slice ao L.length cap, .int .i64 (n : Int), .bool false] w fun e w' => e = .returned (.int .u32 (num false n L : Int)) ∧ w' = w := by
  obtain ⟨b, o, rfl, hc⟩ := Bytes.at hB (List.ne_nil_of_length_pos (by omega))
  have Hc : Hid _ := hc
  clear hc hB
  go_enter Try.func25, Try.ntmps25
  go_wp2
  go_loop [7, 8] (fun t7 t8 => ∃ k : Nat, k ≤ n ∧ t8 = .int .i64 (k : Int) ∧ t7 = .int .u32 (acc false n L k : Int)) (fun _ t8 => n - (intOf t8).toNat)
  case atStart => exact ⟨0, Nat.zero_le _, rfl, rfl⟩
  case round =>
    obtain ⟨k, hk, rfl, rfl⟩ := hrel
    by_cases hlt : k < n
    · have ha := acc_le false n L (k := k) (by omega)
      obtain ⟨d, hd⟩ : ∃ d, d = L[k]'(by omega) := ⟨_, rfl⟩
      have hcell := Hc.out (k) (by omega)
      rw [← hd] at hcell
      have hbd := d.toNat_lt
      have hbd' : d.toNat ≤ 255 := by omega
      have hs : Hid (acc false n L (k + 1) = acc false n L k * 256 + d.toNat) := by
        refine (?_ : acc false n L (k + 1) = _)
        rw [acc, hd, ← getD_at (by omega)]
        simp [pl]
      clear hd hbd
      generalize acc false n L k = a at *
      
      go_wp2
      go_round
      case rel => exact ⟨k + 1, by omega, by go_num, by rw [hs.out]; go_num⟩
      case measure => simp [intOf]; omega
    · obtain rfl : k = n := by omega
      go_wp2
      go_ret
      exact ⟨ret_int rfl, rfl⟩

set_option maxRecDepth 100000 in
set_option maxHeartbeats 4000000 in
theorem numberR_lo (n : Nat) (h1 : 1 ≤ n) (h4 : n ≤ 4) (ao : Option Addr) (cap : Nat) (L : List UInt8) (w : World) (hB : Bytes w ao L) (hl : n ≤ L.length) (hx : L.length ≤ 140737488355328) :
    Calls Try.prog 25 #[.slice ao L.length cap, .int .i64 (n : Int), .bool true] w fun e w' => e = .returned (.int .u32 (num true n L : Int)) ∧ w' = w := by
  obtain ⟨b, o, rfl, hc⟩ := Bytes.at hB (List.ne_nil_of_length_pos (by omega))
  have Hc : Hid _ := hc
  clear hc hB
  go_enter Try.func25, Try.ntmps25
  go_wp2
  go_loop [7, 8] (fun t7 t8 => ∃ k : Nat, k ≤ n ∧ t8 = .int .i64 (k : Int) ∧ t7 = .int .u32 (acc true n L k : Int)) (fun _ t8 => n - (intOf t8).toNat)
  case atStart => exact ⟨0, Nat.zero_le _, rfl, rfl⟩
  case round =>
    obtain ⟨k, hk, rfl, rfl⟩ := hrel
    by_cases hlt : k < n
    · have ha := acc_le true n L (k := k) (by omega)
      obtain ⟨d, hd⟩ : ∃ d, d = L[n - 1 - k]'(by omega) := ⟨_, rfl⟩
      have hcell := Hc.out (n - 1 - k) (by omega)
      rw [← hd] at hcell
      have hbd := d.toNat_lt
      have hbd' : d.toNat ≤ 255 := by omega
      have hs : Hid (acc true n L (k + 1) = acc true n L k * 256 + d.toNat) := by
        refine (?_ : acc true n L (k + 1) = _)
        rw [acc, hd, ← getD_at (by omega)]
        simp [pl]
      clear hd hbd
      generalize acc true n L k = a at *
      have hidx : ((n - 1 - k : Nat) : Int) = (n : Int) - 1 - k := by omega
      go_wp2
      go_round
      case rel => exact ⟨k + 1, by omega, by go_num, by rw [hs.out]; go_num⟩
      case measure => simp [intOf]; omega
    · obtain rfl : k = n := by omega
      go_wp2
      go_ret
      exact ⟨ret_int rfl, rfl⟩

theorem numberR_any (low : Bool) (n : Nat) (hn : n = 2 ∨ n = 4) (ao : Option Addr) (len cap : Nat) (L : List UInt8) (w : World) (hB : Bytes w ao L) (hlen : L.length = len) (hl : n ≤ len) (hx : len ≤ 140737488355328) (v : Int) (hv : (num low n L : Int) = v) :
    Calls Try.prog 25 #[.slice ao len cap, .int .i64 (n : Int), .bool low] w fun e w' => e = .returned (.int .u32 v) ∧ w' = w := by
  subst hv hlen
  cases low
  · exact numberR_hi n (by omega) (by omega) ao cap L w hB hl hx
  · exact numberR_lo n (by omega) (by omega) ao cap L w hB hl hx
theorem scR_lit (u : Int) (w : World) (t : Bool) (ht : scB u = t) : Calls Try.prog 16 #[.int .i32 u] w fun e w' => e = .returned (.bool t) ∧ w' = w := by
  subst ht; exact scalar_ref u w
theorem hiR_lit (u : Int) (w : World) (t : Bool) (ht : hiB u = t) : Calls Try.prog 40 #[.int .i32 u] w fun e w' => e = .returned (.bool t) ∧ w' = w := by
  subst ht; exact high_ref u w
theorem joinR_lit (a b : Int) (w : World) (t : Bool) (ht : joinB a b = t) (v : Int) (hv : joinV a b = v) : Calls Try.prog 41 #[.int .i32 a, .int .i32 b] w fun e w' => e = .returned (.tuple #[.int .i32 v, .bool t]) ∧ w' = w := by
  subst ht hv; exact join_ref a b w
end Go.Proofs.Ytkfcciacoplgmaa.Wd
