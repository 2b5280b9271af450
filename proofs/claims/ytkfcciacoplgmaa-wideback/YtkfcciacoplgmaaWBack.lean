/- WideBack: the walks joined. -/
import Derived.Test.YtkfcciacoplgmaaWBackP
import Derived.Test.YtkfcciacoplgmaaWBackN
import Derived.Test.YtkfcciacoplgmaaWBack0
import Derived.Test.YtkfcciacoplgmaaWBack51
import Derived.Test.YtkfcciacoplgmaaWBack52
import Derived.Test.YtkfcciacoplgmaaWBack81
import Derived.Test.YtkfcciacoplgmaaWBack82
import Derived.Test.YtkfcciacoplgmaaWBack50
import Derived.Test.YtkfcciacoplgmaaWBack80
import Derived.Deep.RegionHeld3
import Derived.BigQuiet
namespace Go.Proofs.Ytkfcciacoplgmaa.Wd
open Go.ChangeShapes Go.WideShapes Go.ChangeAt Go.RowKit Go.Proofs.Ytkfcciacoplgmaa.Mem Go.Proofs.Ytkfcciacoplgmaa.Ucs
set_option linter.unusedVariables false
set_option linter.unusedSimpArgs false

theorem back_bare (a0 a1 u : Int) (r : Nat) (hr : wrap64 ((IntKind.u64.wrap a0).tmod 8) = (r : Int)) (hr8 : r < 8) (h2 : r ≠ 2) (h5 : r ≠ 5) (ao : Option Addr) (cap : Nat) (L : List UInt8) (w : World) (hB : Bytes w ao L) (hLc : L.length ≤ cap) (hcm : cap ≤ 140737488351232) : Calls Try.prog 5 #[.int .i64 a0, .int .i64 a1, .int .i32 u, .slice ao L.length cap] w fun e w' => e = .returned (.bool true) ∧ Below w.heap.size w w' := by
  obtain ⟨n, p, low, hf⟩ := fm_bare r hr8 h2 h5
  obtain ⟨hn, hp, h9⟩ := fm_pair hf
  have k5 : (3 + (r : Int) == 5) = false := by simp; omega
  have k8 : (3 + (r : Int) == 8) = false := by simp; omega
  cases hb : bytesR p low n u with
  | none =>
    have hS := set_none_bare hf hb
    rcases bytesR_no hb with hs | ⟨hs, hu, hp', hn'⟩
    · exact back0_nosc a0 a1 u r hr hr8 k5 k8 ao cap L w hB hLc hcm hS hs
    · exact back0_nobig a0 a1 u r hr hr8 k5 k8 ao cap L w hB hLc hcm hS hs hu (h9 hp' hn')
  | some B =>
    have hS := set_bare hf hb
    have hl := bytesR_length hn hb
    have h0 := bytesR_pos hn hb
    have hG : getR (3 + (r : Int)) 0 0 0 0 (B ++ L) = ⟨0, (B.length : Int), 1, u, 0⟩ := (getR_bare hf _).trans (plain_back p low n hn hp u B L hb 0)
    rcases plain_cases p low n hn hp L 0 with h | ⟨rn, h⟩ | ⟨N, ra, hN, h, hy⟩
    · exact back0_okno1 a0 a1 u r hr hr8 k5 k8 ao cap L w hB hLc hcm B (by omega) h0 ((getR_bare hf L).trans h) hS hG
    · exact back0_okno10 a0 a1 u r hr hr8 k5 k8 ao cap L w hB hLc hcm B (by omega) h0 rn ((getR_bare hf L).trans h) hS hG
    · exact back0_okyes a0 a1 u r hr hr8 k5 k8 ao cap L w hB hLc hcm B (by omega) h0 ra N hN ((getR_bare hf L).trans h) (set_bare hf hy) hS hG

theorem back_51 (a0 a1 u : Int) (hr : wrap64 ((IntKind.u64.wrap a0).tmod 8) = 2) (hm : wrap64 ((IntKind.u64.wrap a1).tmod 3) = 1) (ao : Option Addr) (cap : Nat) (L : List UInt8) (w : World) (hB : Bytes w ao L) (hLc : L.length ≤ cap) (hcm : cap ≤ 140737488351232) : Calls Try.prog 5 #[.int .i64 a0, .int .i64 a1, .int .i32 u, .slice ao L.length cap] w fun e w' => e = .returned (.bool true) ∧ Below w.heap.size w w' := by
  have hf : fm 5 = some (2, true, true, false) := rfl
  have hn : 2 = 2 ∨ 2 = 4 := by omega
  have hp : true = true → 2 = 2 := by simp
  have hmd : (1 : Int) = 1 ∨ (1 : Int) = 2 := by omega
  cases hb : bytesR true (decide ((1 : Int) = 2)) 2 u with
  | none =>
    have hS := set_none_mode hf 1 (by omega) hb
    rcases bytesR_no hb with hs | ⟨hs, hu, hp', hn'⟩
    · exact back5_nosc a0 a1 u 1 hr hm ao cap L w hB hLc hcm hS hs
    · cases hp'
  | some B =>
    have hS := set_mode hf 1 hmd hb
    have hl := bytesR_length hn hb
    have h0 := bytesR_pos hn hb
    have hG : getR 5 1 0 0 0 (B ++ L) = ⟨0, (B.length : Int), 1, u, 1⟩ := (get_mode hf 1 hmd _).trans (plain_back true _ 2 hn hp u B L hb 1)
    rcases plain_cases true (decide ((1 : Int) = 2)) 2 hn hp L 1 with h | ⟨rn, h⟩ | ⟨N, ra, hN, h, hy⟩
    · exact back51_okno1 a0 a1 u hr hm ao cap L w hB hLc hcm B (by omega) h0 ((get_mode hf 1 hmd L).trans h) hS hG
    · exact back51_okno10 a0 a1 u hr hm ao cap L w hB hLc hcm B (by omega) h0 rn ((get_mode hf 1 hmd L).trans h) hS hG
    · exact back51_okyes a0 a1 u hr hm ao cap L w hB hLc hcm B (by omega) h0 ra N hN ((get_mode hf 1 hmd L).trans h) (set_mode hf 1 hmd hy) hS hG

theorem back_52 (a0 a1 u : Int) (hr : wrap64 ((IntKind.u64.wrap a0).tmod 8) = 2) (hm : wrap64 ((IntKind.u64.wrap a1).tmod 3) = 2) (ao : Option Addr) (cap : Nat) (L : List UInt8) (w : World) (hB : Bytes w ao L) (hLc : L.length ≤ cap) (hcm : cap ≤ 140737488351232) : Calls Try.prog 5 #[.int .i64 a0, .int .i64 a1, .int .i32 u, .slice ao L.length cap] w fun e w' => e = .returned (.bool true) ∧ Below w.heap.size w w' := by
  have hf : fm 5 = some (2, true, true, false) := rfl
  have hn : 2 = 2 ∨ 2 = 4 := by omega
  have hp : true = true → 2 = 2 := by simp
  have hmd : (2 : Int) = 1 ∨ (2 : Int) = 2 := by omega
  cases hb : bytesR true (decide ((2 : Int) = 2)) 2 u with
  | none =>
    have hS := set_none_mode hf 2 (by omega) hb
    rcases bytesR_no hb with hs | ⟨hs, hu, hp', hn'⟩
    · exact back5_nosc a0 a1 u 2 hr hm ao cap L w hB hLc hcm hS hs
    · cases hp'
  | some B =>
    have hS := set_mode hf 2 hmd hb
    have hl := bytesR_length hn hb
    have h0 := bytesR_pos hn hb
    have hG : getR 5 2 0 0 0 (B ++ L) = ⟨0, (B.length : Int), 1, u, 2⟩ := (get_mode hf 2 hmd _).trans (plain_back true _ 2 hn hp u B L hb 2)
    rcases plain_cases true (decide ((2 : Int) = 2)) 2 hn hp L 2 with h | ⟨rn, h⟩ | ⟨N, ra, hN, h, hy⟩
    · exact back52_okno1 a0 a1 u hr hm ao cap L w hB hLc hcm B (by omega) h0 ((get_mode hf 2 hmd L).trans h) hS hG
    · exact back52_okno10 a0 a1 u hr hm ao cap L w hB hLc hcm B (by omega) h0 rn ((get_mode hf 2 hmd L).trans h) hS hG
    · exact back52_okyes a0 a1 u hr hm ao cap L w hB hLc hcm B (by omega) h0 ra N hN ((get_mode hf 2 hmd L).trans h) (set_mode hf 2 hmd hy) hS hG

theorem back_50 (a0 a1 u : Int) (hr : wrap64 ((IntKind.u64.wrap a0).tmod 8) = 2) (hm : wrap64 ((IntKind.u64.wrap a1).tmod 3) = 0) (ao : Option Addr) (cap : Nat) (L : List UInt8) (w : World) (hB : Bytes w ao L) (hLc : L.length ≤ cap) (hcm : cap ≤ 140737488351232) : Calls Try.prog 5 #[.int .i64 a0, .int .i64 a1, .int .i32 u, .slice ao L.length cap] w fun e w' => e = .returned (.bool true) ∧ Below w.heap.size w w' := by
  have hf : fm 5 = some (2, true, true, false) := rfl
  have hn : 2 = 2 ∨ 2 = 4 := by omega
  have hp : true = true → 2 = 2 := by simp
  have hmd : (1 : Int) = 1 ∨ (1 : Int) = 2 := by omega
  cases hb : bytesR true false 2 u with
  | none =>
    have hS := set_none_mode hf 0 (by omega) hb
    rcases bytesR_no hb with hs | ⟨hs, hu, hp', hn'⟩
    · exact back5_nosc a0 a1 u 0 hr hm ao cap L w hB hLc hcm hS hs
    · cases hp'
  | some B =>
    have hS := set_fresh hf hb
    have hl := bytesR_length hn hb
    have h0 := bytesR_pos hn hb
    have hU : (unitB false 2 65279).length = 2 := unitB_length _ _ _
    have hG0 : getR 5 0 0 0 0 ((unitB false 2 65279 ++ B) ++ L) = ⟨0, 2, 0, 0, 1⟩ := by rw [List.append_assoc]; exact get_fresh hn hf (B ++ L)
    have hG : getR 5 1 0 0 0 (((unitB false 2 65279 ++ B) ++ L).drop 2) = ⟨0, ((unitB false 2 65279 ++ B).length : Int) - 2, 1, u, 1⟩ := by
      have he : (((unitB false 2 65279 ++ B).length : Nat) : Int) - 2 = (B.length : Int) := by rw [List.length_append, hU]; omega
      rw [he, List.append_assoc, drop_unit 2]
      exact (get_mode hf 1 hmd _).trans (plain_back true _ 2 hn hp u B L hb 1)
    rcases plain_cases true (decide ((1 : Int) = 2)) 2 hn hp L 1 with h | ⟨rn, h⟩ | ⟨N, ra, hN, h, hy⟩
    · exact back50_okno1 a0 a1 u hr hm ao cap L w hB hLc hcm (unitB false 2 65279 ++ B) (by rw [List.length_append, hU]; omega) (by rw [List.length_append, hU]; omega) ((get_mode hf 1 hmd L).trans h) hS hG0 hG
    · exact back50_okno10 a0 a1 u hr hm ao cap L w hB hLc hcm (unitB false 2 65279 ++ B) (by rw [List.length_append, hU]; omega) (by rw [List.length_append, hU]; omega) rn ((get_mode hf 1 hmd L).trans h) hS hG0 hG
    · exact back50_okyes a0 a1 u hr hm ao cap L w hB hLc hcm (unitB false 2 65279 ++ B) (by rw [List.length_append, hU]; omega) (by rw [List.length_append, hU]; omega) ra N hN ((get_mode hf 1 hmd L).trans h) (set_mode hf 1 hmd hy) hS hG0 hG

theorem back_81 (a0 a1 u : Int) (hr : wrap64 ((IntKind.u64.wrap a0).tmod 8) = 5) (hm : wrap64 ((IntKind.u64.wrap a1).tmod 3) = 1) (ao : Option Addr) (cap : Nat) (L : List UInt8) (w : World) (hB : Bytes w ao L) (hLc : L.length ≤ cap) (hcm : cap ≤ 140737488351232) : Calls Try.prog 5 #[.int .i64 a0, .int .i64 a1, .int .i32 u, .slice ao L.length cap] w fun e w' => e = .returned (.bool true) ∧ Below w.heap.size w w' := by
  have hf : fm 8 = some (4, false, true, false) := rfl
  have hn : 4 = 2 ∨ 4 = 4 := by omega
  have hp : false = true → 4 = 2 := by simp
  have hmd : (1 : Int) = 1 ∨ (1 : Int) = 2 := by omega
  cases hb : bytesR false (decide ((1 : Int) = 2)) 4 u with
  | none =>
    have hS := set_none_mode hf 1 (by omega) hb
    rcases bytesR_no hb with hs | ⟨hs, hu, hp', hn'⟩
    · exact back8_nosc a0 a1 u 1 hr hm ao cap L w hB hLc hcm hS hs
    · exact absurd rfl hn'
  | some B =>
    have hS := set_mode hf 1 hmd hb
    have hl := bytesR_length hn hb
    have h0 := bytesR_pos hn hb
    have hG : getR 8 1 0 0 0 (B ++ L) = ⟨0, (B.length : Int), 1, u, 1⟩ := (get_mode hf 1 hmd _).trans (plain_back false _ 4 hn hp u B L hb 1)
    rcases plain_cases false (decide ((1 : Int) = 2)) 4 hn hp L 1 with h | ⟨rn, h⟩ | ⟨N, ra, hN, h, hy⟩
    · exact back81_okno1 a0 a1 u hr hm ao cap L w hB hLc hcm B (by omega) h0 ((get_mode hf 1 hmd L).trans h) hS hG
    · exact back81_okno10 a0 a1 u hr hm ao cap L w hB hLc hcm B (by omega) h0 rn ((get_mode hf 1 hmd L).trans h) hS hG
    · exact back81_okyes a0 a1 u hr hm ao cap L w hB hLc hcm B (by omega) h0 ra N hN ((get_mode hf 1 hmd L).trans h) (set_mode hf 1 hmd hy) hS hG

theorem back_82 (a0 a1 u : Int) (hr : wrap64 ((IntKind.u64.wrap a0).tmod 8) = 5) (hm : wrap64 ((IntKind.u64.wrap a1).tmod 3) = 2) (ao : Option Addr) (cap : Nat) (L : List UInt8) (w : World) (hB : Bytes w ao L) (hLc : L.length ≤ cap) (hcm : cap ≤ 140737488351232) : Calls Try.prog 5 #[.int .i64 a0, .int .i64 a1, .int .i32 u, .slice ao L.length cap] w fun e w' => e = .returned (.bool true) ∧ Below w.heap.size w w' := by
  have hf : fm 8 = some (4, false, true, false) := rfl
  have hn : 4 = 2 ∨ 4 = 4 := by omega
  have hp : false = true → 4 = 2 := by simp
  have hmd : (2 : Int) = 1 ∨ (2 : Int) = 2 := by omega
  cases hb : bytesR false (decide ((2 : Int) = 2)) 4 u with
  | none =>
    have hS := set_none_mode hf 2 (by omega) hb
    rcases bytesR_no hb with hs | ⟨hs, hu, hp', hn'⟩
    · exact back8_nosc a0 a1 u 2 hr hm ao cap L w hB hLc hcm hS hs
    · exact absurd rfl hn'
  | some B =>
    have hS := set_mode hf 2 hmd hb
    have hl := bytesR_length hn hb
    have h0 := bytesR_pos hn hb
    have hG : getR 8 2 0 0 0 (B ++ L) = ⟨0, (B.length : Int), 1, u, 2⟩ := (get_mode hf 2 hmd _).trans (plain_back false _ 4 hn hp u B L hb 2)
    rcases plain_cases false (decide ((2 : Int) = 2)) 4 hn hp L 2 with h | ⟨rn, h⟩ | ⟨N, ra, hN, h, hy⟩
    · exact back82_okno1 a0 a1 u hr hm ao cap L w hB hLc hcm B (by omega) h0 ((get_mode hf 2 hmd L).trans h) hS hG
    · exact back82_okno10 a0 a1 u hr hm ao cap L w hB hLc hcm B (by omega) h0 rn ((get_mode hf 2 hmd L).trans h) hS hG
    · exact back82_okyes a0 a1 u hr hm ao cap L w hB hLc hcm B (by omega) h0 ra N hN ((get_mode hf 2 hmd L).trans h) (set_mode hf 2 hmd hy) hS hG

theorem back_80 (a0 a1 u : Int) (hr : wrap64 ((IntKind.u64.wrap a0).tmod 8) = 5) (hm : wrap64 ((IntKind.u64.wrap a1).tmod 3) = 0) (ao : Option Addr) (cap : Nat) (L : List UInt8) (w : World) (hB : Bytes w ao L) (hLc : L.length ≤ cap) (hcm : cap ≤ 140737488351232) : Calls Try.prog 5 #[.int .i64 a0, .int .i64 a1, .int .i32 u, .slice ao L.length cap] w fun e w' => e = .returned (.bool true) ∧ Below w.heap.size w w' := by
  have hf : fm 8 = some (4, false, true, false) := rfl
  have hn : 4 = 2 ∨ 4 = 4 := by omega
  have hp : false = true → 4 = 2 := by simp
  have hmd : (1 : Int) = 1 ∨ (1 : Int) = 2 := by omega
  cases hb : bytesR false false 4 u with
  | none =>
    have hS := set_none_mode hf 0 (by omega) hb
    rcases bytesR_no hb with hs | ⟨hs, hu, hp', hn'⟩
    · exact back8_nosc a0 a1 u 0 hr hm ao cap L w hB hLc hcm hS hs
    · exact absurd rfl hn'
  | some B =>
    have hS := set_fresh hf hb
    have hl := bytesR_length hn hb
    have h0 := bytesR_pos hn hb
    have hU : (unitB false 4 65279).length = 4 := unitB_length _ _ _
    have hG0 : getR 8 0 0 0 0 ((unitB false 4 65279 ++ B) ++ L) = ⟨0, 4, 0, 0, 1⟩ := by rw [List.append_assoc]; exact get_fresh hn hf (B ++ L)
    have hG : getR 8 1 0 0 0 (((unitB false 4 65279 ++ B) ++ L).drop 4) = ⟨0, ((unitB false 4 65279 ++ B).length : Int) - 4, 1, u, 1⟩ := by
      have he : (((unitB false 4 65279 ++ B).length : Nat) : Int) - 4 = (B.length : Int) := by rw [List.length_append, hU]; omega
      rw [he, List.append_assoc, drop_unit 4]
      exact (get_mode hf 1 hmd _).trans (plain_back false _ 4 hn hp u B L hb 1)
    rcases plain_cases false (decide ((1 : Int) = 2)) 4 hn hp L 1 with h | ⟨rn, h⟩ | ⟨N, ra, hN, h, hy⟩
    · exact back80_okno1 a0 a1 u hr hm ao cap L w hB hLc hcm (unitB false 4 65279 ++ B) (by rw [List.length_append, hU]; omega) (by rw [List.length_append, hU]; omega) ((get_mode hf 1 hmd L).trans h) hS hG0 hG
    · exact back80_okno10 a0 a1 u hr hm ao cap L w hB hLc hcm (unitB false 4 65279 ++ B) (by rw [List.length_append, hU]; omega) (by rw [List.length_append, hU]; omega) rn ((get_mode hf 1 hmd L).trans h) hS hG0 hG
    · exact back80_okyes a0 a1 u hr hm ao cap L w hB hLc hcm (unitB false 4 65279 ++ B) (by rw [List.length_append, hU]; omega) (by rw [List.length_append, hU]; omega) ra N hN ((get_mode hf 1 hmd L).trans h) (set_mode hf 1 hmd hy) hS hG0 hG

theorem back_walk (a0 a1 u : Int) (ao : Option Addr) (cap : Nat) (L : List UInt8) (w : World) (hB : Bytes w ao L) (hLc : L.length ≤ cap) (hcm : cap ≤ 140737488351232) : Calls Try.prog 5 #[.int .i64 a0, .int .i64 a1, .int .i32 u, .slice ao L.length cap] w fun e w' => e = .returned (.bool true) ∧ Below w.heap.size w w' := by
  obtain ⟨r, hr, hr8⟩ := mod_fit a0 8 (by omega) (by omega)
  obtain ⟨m, hm, hm3⟩ := mod_fit a1 3 (by omega) (by omega)
  by_cases h2 : r = 2
  · subst h2
    have h : m = 0 ∨ m = 1 ∨ m = 2 := by omega
    rcases h with rfl | rfl | rfl
    · exact back_50 a0 a1 u hr hm ao cap L w hB hLc hcm
    · exact back_51 a0 a1 u hr hm ao cap L w hB hLc hcm
    · exact back_52 a0 a1 u hr hm ao cap L w hB hLc hcm
  · by_cases h5 : r = 5
    · subst h5
      have h : m = 0 ∨ m = 1 ∨ m = 2 := by omega
      rcases h with rfl | rfl | rfl
      · exact back_80 a0 a1 u hr hm ao cap L w hB hLc hcm
      · exact back_81 a0 a1 u hr hm ao cap L w hB hLc hcm
      · exact back_82 a0 a1 u hr hm ao cap L w hB hLc hcm
    · exact back_bare a0 a1 u r hr hr8 h2 h5 ao cap L w hB hLc hcm
end Go.Proofs.Ytkfcciacoplgmaa.Wd
