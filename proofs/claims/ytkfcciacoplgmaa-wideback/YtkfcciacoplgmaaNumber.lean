/- The number of a unit: walks. -/
import Derived.Test.YtkfcciacoplgmaaJoins
import Derived.Test.YtkfcciacoplgmaaBlk
import Derived.Test.YtkfcciacoplgmaaUnits
import Derived.Laws.EntriesVeiled
namespace Go.Proofs.Ytkfcciacoplgmaa.Wd
open Go.ChangeShapes Go.WideShapes Go.ChangeAt Go.RowKit Go.Proofs.Ytkfcciacoplgmaa.Mem Go.Proofs.Ytkfcciacoplgmaa.Ucs
set_option linter.unusedVariables false

theorem u32_or (a b x : Nat) (hb : b < 256) (hx : x = a * 256) (h : x < 4294967296) : bits .or .u32 (x : Int) (b : Int) = ((x + b : Nat) : Int) := by
  have e1 : (BitVec.ofInt 32 (x : Int)).toNat = x := by rw [BitVec.ofInt_natCast, BitVec.toNat_ofNat]; exact Nat.mod_eq_of_lt (by omega)
  have e2 : (BitVec.ofInt 32 (b : Int)).toNat = b := by rw [BitVec.ofInt_natCast, BitVec.toNat_ofNat]; exact Nat.mod_eq_of_lt (by omega)
  show IntKind.u32.wrap ((BitVec.ofInt 32 (x : Int) ||| BitVec.ofInt 32 (b : Int)).toNat : Int) = _
  have e3 := Nat.two_pow_add_eq_or_of_lt (i := 8) hb a
  rw [BitVec.toNat_or, e1, e2, hx, Nat.mul_comm a, show (256 : Nat) = 2 ^ 8 from rfl, ← e3, IntKind.wrap_u32]
  omega

abbrev fnOf (low : Bool) : Nat := if low then 34 else 35
abbrev hiF : Value := .func (.func 35) #[] #[]
abbrev loF : Value := .func (.func 34) #[] #[]

set_option maxRecDepth 100000 in
set_option maxHeartbeats 1000000 in
theorem number_hi (n : Nat) (p m : Bool) (h1 : 1 ≤ n) (h4 : n ≤ 4) (ao : Option Addr) (cap : Nat) (L : List UInt8) (w : World) (hB : Bytes w ao L) (hl : n ≤ L.length) (hx : L.length ≤ 140737488355328) :
    Calls Try.prog 36 #[.agg #[.int .i64 (n : Int), .bool p, .bool m, hiF], .slice ao L.length cap] w fun e w' => e = .returned (.int .i32 (wrap32 (num false n L : Int))) ∧ w.grownBy w' none := by
  obtain ⟨b, o, rfl, hc⟩ := Bytes.at (hB.alloc (.cells #[.int .i64 (n : Int), .bool p, .bool m, hiF] 45)) (List.ne_nil_of_length_pos (by omega))
  have Hc : Hid _ := hc
  clear hc hB
  go_enter Try.func36, Try.ntmps36
  go_wp2
  go_loop [5, 9] (fun t5 t9 => ∃ k : Nat, k ≤ n ∧ t9 = .int .i64 (k : Int) ∧ t5 = .int .u32 (acc false n L k : Int)) (fun _ t9 => n - (intOf t9).toNat)
  case atStart => exact ⟨0, Nat.zero_le _, rfl, rfl⟩
  case round =>
    obtain ⟨k, hk, rfl, rfl⟩ := hrel
    by_cases hlt : k < n
    · have ha := acc_le false n L (k := k) (by omega)
      obtain ⟨d, hd⟩ : ∃ d, d = L[k]'(by omega) := ⟨_, rfl⟩
      have hcell := Hc.out (k) (by omega)
      rw [← hd] at hcell
      have hbd := d.toNat_lt
      have hs : Hid (acc false n L (k + 1) = acc false n L k * 256 + d.toNat) := by
        refine (?_ : acc false n L (k + 1) = _)
        rw [acc, hd, ← getD_at (by omega)]
        simp [pl]
      clear hd
      generalize acc false n L k = a at *
      have hor := u32_or a d.toNat (a * 256) hbd rfl (by omega)
      have hor' : bits .or .u32 ((a : Int) * 256) (d.toNat : Int) = ((a * 256 + d.toNat : Nat) : Int) := by rw [← hor]; congr 1
      clear hor
      
      go_wp2
      go_round
      case rel => exact ⟨k + 1, by omega, by go_num, by rw [hs.out]; go_num⟩
      case measure => simp [intOf]; omega
    · obtain rfl : k = n := by omega
      go_wp2
      go_ret
      exact ⟨ret_int rfl, World.grownBy_alloc _ _ _⟩

set_option maxRecDepth 100000 in
set_option maxHeartbeats 1000000 in
theorem number_lo (n : Nat) (p m : Bool) (h1 : 1 ≤ n) (h4 : n ≤ 4) (ao : Option Addr) (cap : Nat) (L : List UInt8) (w : World) (hB : Bytes w ao L) (hl : n ≤ L.length) (hx : L.length ≤ 140737488355328) :
    Calls Try.prog 36 #[.agg #[.int .i64 (n : Int), .bool p, .bool m, loF], .slice ao L.length cap] w fun e w' => e = .returned (.int .i32 (wrap32 (num true n L : Int))) ∧ w.grownBy w' none := by
  obtain ⟨b, o, rfl, hc⟩ := Bytes.at (hB.alloc (.cells #[.int .i64 (n : Int), .bool p, .bool m, loF] 45)) (List.ne_nil_of_length_pos (by omega))
  have Hc : Hid _ := hc
  clear hc hB
  go_enter Try.func36, Try.ntmps36
  go_wp2
  go_loop [5, 9] (fun t5 t9 => ∃ k : Nat, k ≤ n ∧ t9 = .int .i64 (k : Int) ∧ t5 = .int .u32 (acc true n L k : Int)) (fun _ t9 => n - (intOf t9).toNat)
  case atStart => exact ⟨0, Nat.zero_le _, rfl, rfl⟩
  case round =>
    obtain ⟨k, hk, rfl, rfl⟩ := hrel
    by_cases hlt : k < n
    · have ha := acc_le true n L (k := k) (by omega)
      obtain ⟨d, hd⟩ : ∃ d, d = L[n - 1 - k]'(by omega) := ⟨_, rfl⟩
      have hcell := Hc.out (n - 1 - k) (by omega)
      rw [← hd] at hcell
      have hbd := d.toNat_lt
      have hs : Hid (acc true n L (k + 1) = acc true n L k * 256 + d.toNat) := by
        refine (?_ : acc true n L (k + 1) = _)
        rw [acc, hd, ← getD_at (by omega)]
        simp [pl]
      clear hd
      generalize acc true n L k = a at *
      have hor := u32_or a d.toNat (a * 256) hbd rfl (by omega)
      have hor' : bits .or .u32 ((a : Int) * 256) (d.toNat : Int) = ((a * 256 + d.toNat : Nat) : Int) := by rw [← hor]; congr 1
      clear hor
      have hidx : ((n - 1 - k : Nat) : Int) = (n : Int) - 1 - k := by omega
      go_wp2
      go_round
      case rel => exact ⟨k + 1, by omega, by go_num, by rw [hs.out]; go_num⟩
      case measure => simp [intOf]; omega
    · obtain rfl : k = n := by omega
      go_wp2
      go_ret
      exact ⟨ret_int rfl, World.grownBy_alloc _ _ _⟩

theorem number_any (k : Nat) (low : Bool) (hk : k = fnOf low) (n : Nat) (p m : Bool) (h1 : 1 ≤ n) (h4 : n ≤ 4) (ao : Option Addr) (len cap : Nat) (L : List UInt8) (w : World) (hB : Bytes w ao L) (hlen : L.length = len) (hl : n ≤ len) (hx : len ≤ 140737488355328) (v : Int) (hv : wrap32 (num low n L : Int) = v) :
    Calls Try.prog 36 #[.agg #[.int .i64 (n : Int), .bool p, .bool m, .func (.func k) #[] #[]], .slice ao len cap] w fun e w' => e = .returned (.int .i32 v) ∧ w.grownBy w' none := by
  subst hk hv hlen
  cases low
  · exact number_hi n p m h1 h4 ao cap L w hB hl hx
  · exact number_lo n p m h1 h4 ao cap L w hB hl hx
end Go.Proofs.Ytkfcciacoplgmaa.Wd
