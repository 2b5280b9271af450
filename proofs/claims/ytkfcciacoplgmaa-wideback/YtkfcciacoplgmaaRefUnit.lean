/- The document's unit: walks. -/
import Derived.Test.YtkfcciacoplgmaaFits
import Derived.Test.YtkfcciacoplgmaaBlk
import Derived.Deep.RegionHeld3
import Derived.BigQuiet
namespace Go.Proofs.Ytkfcciacoplgmaa.Wd
open Go.ChangeShapes Go.WideShapes Go.ChangeAt Go.RowKit Go.Proofs.Ytkfcciacoplgmaa.Mem Go.Proofs.Ytkfcciacoplgmaa.Ucs
set_option linter.unusedVariables false
set_option linter.unusedSimpArgs false

theorem info5 : (Try.prog.info? 5).map (fun i => (i.zero, i.size, i.bytes)) = some (some (.int .u8 0), 1, 1) := by kernel_rfl
theorem info_parts {o : Option TypeInfo} {z : Option Value} {a b : Nat} (h : o.map (fun i => (i.zero, i.size, i.bytes)) = some (z, a, b)) : ∃ i, o = some i ∧ i.zero = z ∧ i.size = a ∧ i.bytes = b := by
  cases o with
  | none => simp at h
  | some i => simp at h; exact ⟨i, rfl, h⟩
theorem own_one (w : World) (c : UInt8) : Own (w.alloc (.cells #[.int .u8 (c.toNat : Int)] 5)) (some ⟨w.heap.size, 0, none⟩) 1 [c] :=
  .inr ⟨w.heap.size, _, rfl, heap_alloc_new w _, by simp, by simp [maxLen], rfl, rfl⟩
theorem byt_at (x e p : Nat) (hp : p = 256 ^ e) : (x : Int) / (p : Int) % 256 = ((byt x e).toNat : Int) := by
  rw [byt_toNat, ← hp]; omega
theorem newer {w wx wy : World} {ao : Option Addr} (hg : w.grownBy wx none) (hb : ∀ g, blk ao = some g → w.heap.size ≤ g) (hg1 : wx.grownBy wy (blk ao)) : w.grownBy wy none := grownBy_new hg hg1 hb

set_option maxRecDepth 100000 in
set_option maxHeartbeats 4000000 in
theorem unitR_hi2 (x : Nat) (hx : x ≤ 4294967295) (w : World) :
    Calls Try.prog 31 #[.int .u32 (x : Int), .int .i64 2, .bool false] w fun e w' => e = .returned (.string (str (unitB false 2 x))) ∧ w.grownBy w' none := by
  obtain ⟨i0, hi, hz0, hz1, hz2⟩ := info_parts info5
  go_enter Try.func31, Try.ntmps31
  go_wp2
  go_loopw [7, 8] (fun t7 t8 wx => ∃ i : Nat, i ≤ 2 ∧ t8 = .int .i64 (i : Int) ∧ ∃ ao cap, t7 = .slice ao i cap ∧ Hid (Own wx ao cap ((unitB false 2 x).take i)) ∧ Hid (w.grownBy wx none) ∧ Hid (∀ g, blk ao = some g → w.heap.size ≤ g)) (fun _ t8 _ => 2 - (intOf t8).toNat)
  case atStart => exact ⟨0, by omega, rfl, none, 0, rfl, .inl ⟨rfl, rfl, rfl⟩, grownBy_refl _ _, fun g e => by simp [blk] at e⟩
  case round =>
    obtain ⟨i, hi', rfl, ao, cap, rfl, ho, hg, hb⟩ := hrel
    have hj : i = 0 ∨ i = 1 ∨ i = 2 := by omega
    rcases hj with rfl | rfl | rfl
    · have ho' : Hid (Own wr ao cap []) := ho
      have hX := byt_at x 1 256 rfl
      have h8 := (byt x 1).toNat_lt
      
      clear ho hi'
      go_wp2_with (at_builtin; refine wpList_append_any _ rfl _ _ 25 25 rfl i0 Try.underlying25 hi hz0 hz1 hz2 _ _ [] rfl (ho'.out.alloc _) _ rfl [byt x 1] (src_of (own_one _ _).bytes 25 1 Try.underlying25) (by simp) [byt x 1] rfl ?_; intro ao' c' w1 hown hg1 hat)
      go_roundw
      case rel => exact ⟨1, by omega, by go_num, ao', c', rfl, hown, newer (ga hg.out) hb.out hg1, fun g e => by rcases hat with rfl | rfl; exact hb.out g e; simp [blk] at e; have := hg.out.size; omega⟩
      case measure => simp [intOf]
    · have ho' : Hid (Own wr ao cap [byt x 1]) := ho
      have hX := byt_at x 0 1 rfl
      have h8 := (byt x 0).toNat_lt
      have hX0 : (x : Int) % 256 = ((byt x 0).toNat : Int) := by rw [← hX]; omega
      clear ho hi'
      go_wp2_with (at_builtin; refine wpList_append_any _ rfl _ _ 25 25 rfl i0 Try.underlying25 hi hz0 hz1 hz2 _ _ [byt x 1] rfl (ho'.out.alloc _) _ rfl [byt x 0] (src_of (own_one _ _).bytes 25 1 Try.underlying25) (by simp) [byt x 1, byt x 0] rfl ?_; intro ao' c' w1 hown hg1 hat)
      go_roundw
      case rel => exact ⟨2, by omega, by go_num, ao', c', rfl, hown, newer (ga hg.out) hb.out hg1, fun g e => by rcases hat with rfl | rfl; exact hb.out g e; simp [blk] at e; have := hg.out.size; omega⟩
      case measure => simp [intOf]
    · have ho' : Hid (Own wr ao cap (unitB false 2 x)) := ho
      have hcv : (convert 25 9 (.slice ao 2 cap)).run Try.prog wr = .ok (.string (str (unitB false 2 x))) wr := by
        have := conv (P := Try.prog) ho'.out.bytes 25 9 cap Try.underlying25 Try.underlying5 Try.underlying9
        rwa [unitB_length] at this
      clear ho
      go_wp2
      go_ret
      exact ⟨rfl, hg.out⟩

set_option maxRecDepth 100000 in
set_option maxHeartbeats 4000000 in
theorem unitR_lo2 (x : Nat) (hx : x ≤ 4294967295) (w : World) :
    Calls Try.prog 31 #[.int .u32 (x : Int), .int .i64 2, .bool true] w fun e w' => e = .returned (.string (str (unitB true 2 x))) ∧ w.grownBy w' none := by
  obtain ⟨i0, hi, hz0, hz1, hz2⟩ := info_parts info5
  go_enter Try.func31, Try.ntmps31
  go_wp2
  go_loopw [7, 8] (fun t7 t8 wx => ∃ i : Nat, i ≤ 2 ∧ t8 = .int .i64 (i : Int) ∧ ∃ ao cap, t7 = .slice ao i cap ∧ Hid (Own wx ao cap ((unitB true 2 x).take i)) ∧ Hid (w.grownBy wx none) ∧ Hid (∀ g, blk ao = some g → w.heap.size ≤ g)) (fun _ t8 _ => 2 - (intOf t8).toNat)
  case atStart => exact ⟨0, by omega, rfl, none, 0, rfl, .inl ⟨rfl, rfl, rfl⟩, grownBy_refl _ _, fun g e => by simp [blk] at e⟩
  case round =>
    obtain ⟨i, hi', rfl, ao, cap, rfl, ho, hg, hb⟩ := hrel
    have hj : i = 0 ∨ i = 1 ∨ i = 2 := by omega
    rcases hj with rfl | rfl | rfl
    · have ho' : Hid (Own wr ao cap []) := ho
      have hX := byt_at x 0 1 rfl
      have h8 := (byt x 0).toNat_lt
      have hX0 : (x : Int) % 256 = ((byt x 0).toNat : Int) := by rw [← hX]; omega
      clear ho hi'
      go_wp2_with (at_builtin; refine wpList_append_any _ rfl _ _ 25 25 rfl i0 Try.underlying25 hi hz0 hz1 hz2 _ _ [] rfl (ho'.out.alloc _) _ rfl [byt x 0] (src_of (own_one _ _).bytes 25 1 Try.underlying25) (by simp) [byt x 0] rfl ?_; intro ao' c' w1 hown hg1 hat)
      go_roundw
      case rel => exact ⟨1, by omega, by go_num, ao', c', rfl, hown, newer (ga hg.out) hb.out hg1, fun g e => by rcases hat with rfl | rfl; exact hb.out g e; simp [blk] at e; have := hg.out.size; omega⟩
      case measure => simp [intOf]
    · have ho' : Hid (Own wr ao cap [byt x 0]) := ho
      have hX := byt_at x 1 256 rfl
      have h8 := (byt x 1).toNat_lt
      
      clear ho hi'
      go_wp2_with (at_builtin; refine wpList_append_any _ rfl _ _ 25 25 rfl i0 Try.underlying25 hi hz0 hz1 hz2 _ _ [byt x 0] rfl (ho'.out.alloc _) _ rfl [byt x 1] (src_of (own_one _ _).bytes 25 1 Try.underlying25) (by simp) [byt x 0, byt x 1] rfl ?_; intro ao' c' w1 hown hg1 hat)
      go_roundw
      case rel => exact ⟨2, by omega, by go_num, ao', c', rfl, hown, newer (ga hg.out) hb.out hg1, fun g e => by rcases hat with rfl | rfl; exact hb.out g e; simp [blk] at e; have := hg.out.size; omega⟩
      case measure => simp [intOf]
    · have ho' : Hid (Own wr ao cap (unitB true 2 x)) := ho
      have hcv : (convert 25 9 (.slice ao 2 cap)).run Try.prog wr = .ok (.string (str (unitB true 2 x))) wr := by
        have := conv (P := Try.prog) ho'.out.bytes 25 9 cap Try.underlying25 Try.underlying5 Try.underlying9
        rwa [unitB_length] at this
      clear ho
      go_wp2
      go_ret
      exact ⟨rfl, hg.out⟩

set_option maxRecDepth 100000 in
set_option maxHeartbeats 4000000 in
theorem unitR_hi4 (x : Nat) (hx : x ≤ 4294967295) (w : World) :
    Calls Try.prog 31 #[.int .u32 (x : Int), .int .i64 4, .bool false] w fun e w' => e = .returned (.string (str (unitB false 4 x))) ∧ w.grownBy w' none := by
  obtain ⟨i0, hi, hz0, hz1, hz2⟩ := info_parts info5
  go_enter Try.func31, Try.ntmps31
  go_wp2
  go_loopw [7, 8] (fun t7 t8 wx => ∃ i : Nat, i ≤ 4 ∧ t8 = .int .i64 (i : Int) ∧ ∃ ao cap, t7 = .slice ao i cap ∧ Hid (Own wx ao cap ((unitB false 4 x).take i)) ∧ Hid (w.grownBy wx none) ∧ Hid (∀ g, blk ao = some g → w.heap.size ≤ g)) (fun _ t8 _ => 4 - (intOf t8).toNat)
  case atStart => exact ⟨0, by omega, rfl, none, 0, rfl, .inl ⟨rfl, rfl, rfl⟩, grownBy_refl _ _, fun g e => by simp [blk] at e⟩
  case round =>
    obtain ⟨i, hi', rfl, ao, cap, rfl, ho, hg, hb⟩ := hrel
    have hj : i = 0 ∨ i = 1 ∨ i = 2 ∨ i = 3 ∨ i = 4 := by omega
    rcases hj with rfl | rfl | rfl | rfl | rfl
    · have ho' : Hid (Own wr ao cap []) := ho
      have hX := byt_at x 3 16777216 rfl
      have h8 := (byt x 3).toNat_lt
      
      clear ho hi'
      go_wp2_with (at_builtin; refine wpList_append_any _ rfl _ _ 25 25 rfl i0 Try.underlying25 hi hz0 hz1 hz2 _ _ [] rfl (ho'.out.alloc _) _ rfl [byt x 3] (src_of (own_one _ _).bytes 25 1 Try.underlying25) (by simp) [byt x 3] rfl ?_; intro ao' c' w1 hown hg1 hat)
      go_roundw
      case rel => exact ⟨1, by omega, by go_num, ao', c', rfl, hown, newer (ga hg.out) hb.out hg1, fun g e => by rcases hat with rfl | rfl; exact hb.out g e; simp [blk] at e; have := hg.out.size; omega⟩
      case measure => simp [intOf]
    · have ho' : Hid (Own wr ao cap [byt x 3]) := ho
      have hX := byt_at x 2 65536 rfl
      have h8 := (byt x 2).toNat_lt
      
      clear ho hi'
      go_wp2_with (at_builtin; refine wpList_append_any _ rfl _ _ 25 25 rfl i0 Try.underlying25 hi hz0 hz1 hz2 _ _ [byt x 3] rfl (ho'.out.alloc _) _ rfl [byt x 2] (src_of (own_one _ _).bytes 25 1 Try.underlying25) (by simp) [byt x 3, byt x 2] rfl ?_; intro ao' c' w1 hown hg1 hat)
      go_roundw
      case rel => exact ⟨2, by omega, by go_num, ao', c', rfl, hown, newer (ga hg.out) hb.out hg1, fun g e => by rcases hat with rfl | rfl; exact hb.out g e; simp [blk] at e; have := hg.out.size; omega⟩
      case measure => simp [intOf]
    · have ho' : Hid (Own wr ao cap [byt x 3, byt x 2]) := ho
      have hX := byt_at x 1 256 rfl
      have h8 := (byt x 1).toNat_lt
      
      clear ho hi'
      go_wp2_with (at_builtin; refine wpList_append_any _ rfl _ _ 25 25 rfl i0 Try.underlying25 hi hz0 hz1 hz2 _ _ [byt x 3, byt x 2] rfl (ho'.out.alloc _) _ rfl [byt x 1] (src_of (own_one _ _).bytes 25 1 Try.underlying25) (by simp) [byt x 3, byt x 2, byt x 1] rfl ?_; intro ao' c' w1 hown hg1 hat)
      go_roundw
      case rel => exact ⟨3, by omega, by go_num, ao', c', rfl, hown, newer (ga hg.out) hb.out hg1, fun g e => by rcases hat with rfl | rfl; exact hb.out g e; simp [blk] at e; have := hg.out.size; omega⟩
      case measure => simp [intOf]
    · have ho' : Hid (Own wr ao cap [byt x 3, byt x 2, byt x 1]) := ho
      have hX := byt_at x 0 1 rfl
      have h8 := (byt x 0).toNat_lt
      have hX0 : (x : Int) % 256 = ((byt x 0).toNat : Int) := by rw [← hX]; omega
      clear ho hi'
      go_wp2_with (at_builtin; refine wpList_append_any _ rfl _ _ 25 25 rfl i0 Try.underlying25 hi hz0 hz1 hz2 _ _ [byt x 3, byt x 2, byt x 1] rfl (ho'.out.alloc _) _ rfl [byt x 0] (src_of (own_one _ _).bytes 25 1 Try.underlying25) (by simp) [byt x 3, byt x 2, byt x 1, byt x 0] rfl ?_; intro ao' c' w1 hown hg1 hat)
      go_roundw
      case rel => exact ⟨4, by omega, by go_num, ao', c', rfl, hown, newer (ga hg.out) hb.out hg1, fun g e => by rcases hat with rfl | rfl; exact hb.out g e; simp [blk] at e; have := hg.out.size; omega⟩
      case measure => simp [intOf]
    · have ho' : Hid (Own wr ao cap (unitB false 4 x)) := ho
      have hcv : (convert 25 9 (.slice ao 4 cap)).run Try.prog wr = .ok (.string (str (unitB false 4 x))) wr := by
        have := conv (P := Try.prog) ho'.out.bytes 25 9 cap Try.underlying25 Try.underlying5 Try.underlying9
        rwa [unitB_length] at this
      clear ho
      go_wp2
      go_ret
      exact ⟨rfl, hg.out⟩

set_option maxRecDepth 100000 in
set_option maxHeartbeats 4000000 in
theorem unitR_lo4 (x : Nat) (hx : x ≤ 4294967295) (w : World) :
    Calls Try.prog 31 #[.int .u32 (x : Int), .int .i64 4, .bool true] w fun e w' => e = .returned (.string (str (unitB true 4 x))) ∧ w.grownBy w' none := by
  obtain ⟨i0, hi, hz0, hz1, hz2⟩ := info_parts info5
  go_enter Try.func31, Try.ntmps31
  go_wp2
  go_loopw [7, 8] (fun t7 t8 wx => ∃ i : Nat, i ≤ 4 ∧ t8 = .int .i64 (i : Int) ∧ ∃ ao cap, t7 = .slice ao i cap ∧ Hid (Own wx ao cap ((unitB true 4 x).take i)) ∧ Hid (w.grownBy wx none) ∧ Hid (∀ g, blk ao = some g → w.heap.size ≤ g)) (fun _ t8 _ => 4 - (intOf t8).toNat)
  case atStart => exact ⟨0, by omega, rfl, none, 0, rfl, .inl ⟨rfl, rfl, rfl⟩, grownBy_refl _ _, fun g e => by simp [blk] at e⟩
  case round =>
    obtain ⟨i, hi', rfl, ao, cap, rfl, ho, hg, hb⟩ := hrel
    have hj : i = 0 ∨ i = 1 ∨ i = 2 ∨ i = 3 ∨ i = 4 := by omega
    rcases hj with rfl | rfl | rfl | rfl | rfl
    · have ho' : Hid (Own wr ao cap []) := ho
      have hX := byt_at x 0 1 rfl
      have h8 := (byt x 0).toNat_lt
      have hX0 : (x : Int) % 256 = ((byt x 0).toNat : Int) := by rw [← hX]; omega
      clear ho hi'
      go_wp2_with (at_builtin; refine wpList_append_any _ rfl _ _ 25 25 rfl i0 Try.underlying25 hi hz0 hz1 hz2 _ _ [] rfl (ho'.out.alloc _) _ rfl [byt x 0] (src_of (own_one _ _).bytes 25 1 Try.underlying25) (by simp) [byt x 0] rfl ?_; intro ao' c' w1 hown hg1 hat)
      go_roundw
      case rel => exact ⟨1, by omega, by go_num, ao', c', rfl, hown, newer (ga hg.out) hb.out hg1, fun g e => by rcases hat with rfl | rfl; exact hb.out g e; simp [blk] at e; have := hg.out.size; omega⟩
      case measure => simp [intOf]
    · have ho' : Hid (Own wr ao cap [byt x 0]) := ho
      have hX := byt_at x 1 256 rfl
      have h8 := (byt x 1).toNat_lt
      
      clear ho hi'
      go_wp2_with (at_builtin; refine wpList_append_any _ rfl _ _ 25 25 rfl i0 Try.underlying25 hi hz0 hz1 hz2 _ _ [byt x 0] rfl (ho'.out.alloc _) _ rfl [byt x 1] (src_of (own_one _ _).bytes 25 1 Try.underlying25) (by simp) [byt x 0, byt x 1] rfl ?_; intro ao' c' w1 hown hg1 hat)
      go_roundw
      case rel => exact ⟨2, by omega, by go_num, ao', c', rfl, hown, newer (ga hg.out) hb.out hg1, fun g e => by rcases hat with rfl | rfl; exact hb.out g e; simp [blk] at e; have := hg.out.size; omega⟩
      case measure => simp [intOf]
    · have ho' : Hid (Own wr ao cap [byt x 0, byt x 1]) := ho
      have hX := byt_at x 2 65536 rfl
      have h8 := (byt x 2).toNat_lt
      
      clear ho hi'
      go_wp2_with (at_builtin; refine wpList_append_any _ rfl _ _ 25 25 rfl i0 Try.underlying25 hi hz0 hz1 hz2 _ _ [byt x 0, byt x 1] rfl (ho'.out.alloc _) _ rfl [byt x 2] (src_of (own_one _ _).bytes 25 1 Try.underlying25) (by simp) [byt x 0, byt x 1, byt x 2] rfl ?_; intro ao' c' w1 hown hg1 hat)
      go_roundw
      case rel => exact ⟨3, by omega, by go_num, ao', c', rfl, hown, newer (ga hg.out) hb.out hg1, fun g e => by rcases hat with rfl | rfl; exact hb.out g e; simp [blk] at e; have := hg.out.size; omega⟩
      case measure => simp [intOf]
    · have ho' : Hid (Own wr ao cap [byt x 0, byt x 1, byt x 2]) := ho
      have hX := byt_at x 3 16777216 rfl
      have h8 := (byt x 3).toNat_lt
      
      clear ho hi'
      go_wp2_with (at_builtin; refine wpList_append_any _ rfl _ _ 25 25 rfl i0 Try.underlying25 hi hz0 hz1 hz2 _ _ [byt x 0, byt x 1, byt x 2] rfl (ho'.out.alloc _) _ rfl [byt x 3] (src_of (own_one _ _).bytes 25 1 Try.underlying25) (by simp) [byt x 0, byt x 1, byt x 2, byt x 3] rfl ?_; intro ao' c' w1 hown hg1 hat)
      go_roundw
      case rel => exact ⟨4, by omega, by go_num, ao', c', rfl, hown, newer (ga hg.out) hb.out hg1, fun g e => by rcases hat with rfl | rfl; exact hb.out g e; simp [blk] at e; have := hg.out.size; omega⟩
      case measure => simp [intOf]
    · have ho' : Hid (Own wr ao cap (unitB true 4 x)) := ho
      have hcv : (convert 25 9 (.slice ao 4 cap)).run Try.prog wr = .ok (.string (str (unitB true 4 x))) wr := by
        have := conv (P := Try.prog) ho'.out.bytes 25 9 cap Try.underlying25 Try.underlying5 Try.underlying9
        rwa [unitB_length] at this
      clear ho
      go_wp2
      go_ret
      exact ⟨rfl, hg.out⟩

theorem unitR_any (low : Bool) (n : Nat) (hn : n = 2 ∨ n = 4) (x : Nat) (hx : x ≤ 4294967295) (v : Int) (hv : v = (x : Int)) (w : World) (s : ByteArray) (hs : str (unitB low n x) = s) :
    Calls Try.prog 31 #[.int .u32 v, .int .i64 (n : Int), .bool low] w fun e w' => e = .returned (.string s) ∧ w.grownBy w' none := by
  subst hv hs
  rcases hn with rfl | rfl <;> cases low
  · exact unitR_hi2 x hx w
  · exact unitR_lo2 x hx w
  · exact unitR_hi4 x hx w
  · exact unitR_lo4 x hx w
end Go.Proofs.Ytkfcciacoplgmaa.Wd
