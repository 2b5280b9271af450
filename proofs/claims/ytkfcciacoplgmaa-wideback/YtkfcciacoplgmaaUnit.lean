/- A unit's bytes: walks. -/
import Derived.Test.YtkfcciacoplgmaaNumber
namespace Go.Proofs.Ytkfcciacoplgmaa.Wd
open Go.ChangeShapes Go.WideShapes Go.ChangeAt Go.RowKit Go.Proofs.Ytkfcciacoplgmaa.Mem Go.Proofs.Ytkfcciacoplgmaa.Ucs
set_option linter.unusedVariables false

theorem mk2 (w : World) : (Instr.makeSlice 25 (.int .i64 2) (.int .i64 2)).run Try.prog w = .ok (.slice (some ⟨w.heap.size, 0, none⟩) 2 2) (w.alloc (.cells #[.int .u8 0, .int .u8 0] 5)) := by kernel_rfl
theorem mk4 (w : World) : (Instr.makeSlice 25 (.int .i64 4) (.int .i64 4)).run Try.prog w = .ok (.slice (some ⟨w.heap.size, 0, none⟩) 4 4) (w.alloc (.cells #[.int .u8 0, .int .u8 0, .int .u8 0, .int .u8 0] 5)) := by kernel_rfl
theorem byt_mod (u v j : Nat) (h : v = u / 256 ^ j) : (v : Int) % 256 = ((byt u j).toNat : Int) := by
  rw [byt_toNat, ← h]; omega
theorem byt_small (u v j : Nat) (h : v = u / 256 ^ j) (hv : v < 256) : (v : Int) = ((byt u j).toNat : Int) := by
  rw [byt_toNat, ← h]; omega
theorem i32_div (v : Nat) : Value.int .i32 ((v : Int) / 256) = .int .i32 ((v / 256 : Nat) : Int) := by
  have h : (v : Int) / 256 = ((v / 256 : Nat) : Int) := by omega
  rw [h]
theorem div_256 (u j : Nat) : u / 256 ^ j / 256 = u / 256 ^ (j + 1) := by rw [Nat.div_div_eq_div_mul, Nat.pow_succ]

/-- Where the walk stands: the form's block, and the row that is written. -/
structure SU (w : World) (n : Nat) (F : Value) (p m : Bool) (L : List UInt8) (wx : World) : Prop where
  g : w.grownBy wx none
  form : wx.heap[w.heap.size]? = some (.cells #[.int .i64 (n : Int), .bool p, .bool m, F] 45 (0, 0))
  own : Own wx (some ⟨w.heap.size + 1, 0, none⟩) n L
theorem SU.set {w wx : World} {n : Nat} {F : Value} {p m : Bool} {L : List UInt8} (h : SU w n F p m L wx) (j : Nat) (hj : j < L.length) (c : UInt8) : SU w n F p m (L.set j c) (wx.setCell ⟨w.heap.size + 1, j, none⟩ (.int .u8 (c.toNat : Int))) :=
  ⟨sets_new h.g (b := w.heap.size + 1) (by omega) (grownBy_setCell _ _ _), block_other h.form (by omega) _ _, h.own.set j hj c⟩
theorem SU.make (w : World) (n : Nat) (F : Value) (p m : Bool) (cs : Array Value) (h : cs.toList = bcells (List.replicate n 0)) (hn : n ≤ 4) : SU w n F p m (List.replicate n 0) ((w.alloc (.cells #[.int .i64 (n : Int), .bool p, .bool m, F] 45)).alloc (.cells cs 5)) := by
  have hsz : cs.size = n := by rw [← Array.length_toList, h]; simp [bcells]
  refine ⟨grownBy_trans (World.grownBy_alloc _ _ _) (World.grownBy_alloc _ _ _), res_alloc (heap_alloc_new w _) _, .inr ⟨w.heap.size + 1, cs, rfl, ?_, by simp, by simp [maxLen]; omega, hsz, ?_⟩⟩
  · have := heap_alloc_new (w.alloc (.cells #[.int .i64 (n : Int), .bool p, .bool m, F] 45)) (.cells cs 5)
    simpa using this
  · rw [h, List.take_of_length_le (by simp [bcells])]

set_option maxRecDepth 100000 in
set_option maxHeartbeats 4000000 in
theorem unit_hi2 (p m : Bool) (u : Nat) (hu : u < 2147483648) (w : World) :
    Calls Try.prog 30 #[.agg #[.int .i64 2, .bool p, .bool m, hiF], .int .i32 (u : Int)] w fun e w' => e = .returned (.string (str (unitB false 2 u))) ∧ w.grownBy w' none := by
  have hmk := mk2
  have hu' : u ≤ 2147483647 := by omega
  clear hu
  go_enter Try.func30, Try.ntmps30
  go_wp2
  have sp : Hid (SU w 2 hiF p m (stB false 2 u 0) ((w.alloc (.cells #[.int .i64 2, .bool p, .bool m, hiF] 45)).alloc (.cells #[.int .u8 0, .int .u8 0] 5))) := by
    refine (?_ : SU _ _ _ _ _ _ _)
    rw [stB_zero]
    exact SU.make w 2 hiF p m _ rfl (by omega)
  go_loopw [1, 6] (fun t1 t6 wx => ∃ j v : Nat, j ≤ 2 ∧ Hid (v = u / 256 ^ j) ∧ v ≤ u ∧ t1 = .int .i32 (v : Int) ∧ t6 = .int .i64 (1 - (j : Int)) ∧ Hid (SU w 2 hiF p m (stB false 2 u j) wx)) (fun _ t6 _ => (intOf t6 + 1).toNat)
  case atStart => exact ⟨0, u, by omega, (by simp : u = u / 256 ^ 0), by omega, rfl, rfl, sp⟩
  case round =>
    obtain ⟨j, v, hj, hv, hvu, rfl, rfl, spx⟩ := hrel
    have f3 := cell_at spx.out.form 3 (v := hiF) rfl
    have f0 := cell_at spx.out.form 0 (v := .int .i64 2) rfl
    clear sp
    have hj : j = 0 ∨ j = 1 ∨ j = 2 := by omega
    rcases hj with rfl | rfl | rfl
    · have xr := spx.out.own.cell 1 (by simp [stB_length])
      have xf := spx.out.own.free 1
      have hst := byt_mod u v 0 hv.out
      have sp2 : Hid (SU w 2 hiF p m (stB false 2 u 1) (wr.setCell ⟨w.heap.size + 1, 1, none⟩ (.int .u8 ((byt u 0).toNat : Int)))) := by
        refine (?_ : SU _ _ _ _ _ _ _)
        have := spx.out.set 1 (by simp [stB_length]) (byt u 0)
        have e := stB_set false 2 u 0 (by omega)
        rw [← e]
        exact this
      go_wp2
      go_roundw
      case rel => exact ⟨1, v / 256, by omega, (by rw [hv.out]; exact div_256 u _ : v / 256 = u / 256 ^ 1), by omega, i32_div v, rfl, sp2⟩
      case measure => simp [intOf]
    · have xr := spx.out.own.cell 0 (by simp [stB_length])
      have xf := spx.out.own.free 0
      have hst := byt_mod u v 1 hv.out
      have sp2 : Hid (SU w 2 hiF p m (stB false 2 u 2) (wr.setCell ⟨w.heap.size + 1, 0, none⟩ (.int .u8 ((byt u 1).toNat : Int)))) := by
        refine (?_ : SU _ _ _ _ _ _ _)
        have := spx.out.set 0 (by simp [stB_length]) (byt u 1)
        have e := stB_set false 2 u 1 (by omega)
        rw [← e]
        exact this
      go_wp2
      go_roundw
      case rel => exact ⟨2, v / 256, by omega, (by rw [hv.out]; exact div_256 u _ : v / 256 = u / 256 ^ 2), by omega, i32_div v, rfl, sp2⟩
      case measure => simp [intOf]
    · have sp2 : Hid (SU w 2 hiF p m (unitB false 2 u) wr) := by
        refine (?_ : SU _ _ _ _ _ _ _)
        rw [← stB_all]
        exact spx.out
      have hcv : (convert 25 9 (.slice (some ⟨w.heap.size + 1, 0, none⟩) 2 2)).run Try.prog wr = .ok (.string (str (unitB false 2 u))) wr := by
        have := conv (P := Try.prog) sp2.out.own.bytes 25 9 2 Try.underlying25 Try.underlying5 Try.underlying9
        rwa [unitB_length] at this
      clear spx
      go_wp2
      go_ret
      exact ⟨rfl, sp2.out.g⟩

set_option maxRecDepth 100000 in
set_option maxHeartbeats 4000000 in
theorem unit_lo2 (p m : Bool) (u : Nat) (hu : u < 2147483648) (w : World) :
    Calls Try.prog 30 #[.agg #[.int .i64 2, .bool p, .bool m, loF], .int .i32 (u : Int)] w fun e w' => e = .returned (.string (str (unitB true 2 u))) ∧ w.grownBy w' none := by
  have hmk := mk2
  have hu' : u ≤ 2147483647 := by omega
  clear hu
  go_enter Try.func30, Try.ntmps30
  go_wp2
  have sp : Hid (SU w 2 loF p m (stB true 2 u 0) ((w.alloc (.cells #[.int .i64 2, .bool p, .bool m, loF] 45)).alloc (.cells #[.int .u8 0, .int .u8 0] 5))) := by
    refine (?_ : SU _ _ _ _ _ _ _)
    rw [stB_zero]
    exact SU.make w 2 loF p m _ rfl (by omega)
  go_loopw [1, 6] (fun t1 t6 wx => ∃ j v : Nat, j ≤ 2 ∧ Hid (v = u / 256 ^ j) ∧ v ≤ u ∧ t1 = .int .i32 (v : Int) ∧ t6 = .int .i64 (1 - (j : Int)) ∧ Hid (SU w 2 loF p m (stB true 2 u j) wx)) (fun _ t6 _ => (intOf t6 + 1).toNat)
  case atStart => exact ⟨0, u, by omega, (by simp : u = u / 256 ^ 0), by omega, rfl, rfl, sp⟩
  case round =>
    obtain ⟨j, v, hj, hv, hvu, rfl, rfl, spx⟩ := hrel
    have f3 := cell_at spx.out.form 3 (v := loF) rfl
    have f0 := cell_at spx.out.form 0 (v := .int .i64 2) rfl
    clear sp
    have hj : j = 0 ∨ j = 1 ∨ j = 2 := by omega
    rcases hj with rfl | rfl | rfl
    · have xr := spx.out.own.cell 0 (by simp [stB_length])
      have xf := spx.out.own.free 0
      have hst := byt_mod u v 0 hv.out
      have sp2 : Hid (SU w 2 loF p m (stB true 2 u 1) (wr.setCell ⟨w.heap.size + 1, 0, none⟩ (.int .u8 ((byt u 0).toNat : Int)))) := by
        refine (?_ : SU _ _ _ _ _ _ _)
        have := spx.out.set 0 (by simp [stB_length]) (byt u 0)
        have e := stB_set true 2 u 0 (by omega)
        rw [← e]
        exact this
      go_wp2
      go_roundw
      case rel => exact ⟨1, v / 256, by omega, (by rw [hv.out]; exact div_256 u _ : v / 256 = u / 256 ^ 1), by omega, i32_div v, rfl, sp2⟩
      case measure => simp [intOf]
    · have xr := spx.out.own.cell 1 (by simp [stB_length])
      have xf := spx.out.own.free 1
      have hst := byt_mod u v 1 hv.out
      have sp2 : Hid (SU w 2 loF p m (stB true 2 u 2) (wr.setCell ⟨w.heap.size + 1, 1, none⟩ (.int .u8 ((byt u 1).toNat : Int)))) := by
        refine (?_ : SU _ _ _ _ _ _ _)
        have := spx.out.set 1 (by simp [stB_length]) (byt u 1)
        have e := stB_set true 2 u 1 (by omega)
        rw [← e]
        exact this
      go_wp2
      go_roundw
      case rel => exact ⟨2, v / 256, by omega, (by rw [hv.out]; exact div_256 u _ : v / 256 = u / 256 ^ 2), by omega, i32_div v, rfl, sp2⟩
      case measure => simp [intOf]
    · have sp2 : Hid (SU w 2 loF p m (unitB true 2 u) wr) := by
        refine (?_ : SU _ _ _ _ _ _ _)
        rw [← stB_all]
        exact spx.out
      have hcv : (convert 25 9 (.slice (some ⟨w.heap.size + 1, 0, none⟩) 2 2)).run Try.prog wr = .ok (.string (str (unitB true 2 u))) wr := by
        have := conv (P := Try.prog) sp2.out.own.bytes 25 9 2 Try.underlying25 Try.underlying5 Try.underlying9
        rwa [unitB_length] at this
      clear spx
      go_wp2
      go_ret
      exact ⟨rfl, sp2.out.g⟩

set_option maxRecDepth 100000 in
set_option maxHeartbeats 4000000 in
theorem unit_hi4 (p m : Bool) (u : Nat) (hu : u < 2147483648) (w : World) :
    Calls Try.prog 30 #[.agg #[.int .i64 4, .bool p, .bool m, hiF], .int .i32 (u : Int)] w fun e w' => e = .returned (.string (str (unitB false 4 u))) ∧ w.grownBy w' none := by
  have hmk := mk4
  have hu' : u ≤ 2147483647 := by omega
  clear hu
  go_enter Try.func30, Try.ntmps30
  go_wp2
  have sp : Hid (SU w 4 hiF p m (stB false 4 u 0) ((w.alloc (.cells #[.int .i64 4, .bool p, .bool m, hiF] 45)).alloc (.cells #[.int .u8 0, .int .u8 0, .int .u8 0, .int .u8 0] 5))) := by
    refine (?_ : SU _ _ _ _ _ _ _)
    rw [stB_zero]
    exact SU.make w 4 hiF p m _ rfl (by omega)
  go_loopw [1, 6] (fun t1 t6 wx => ∃ j v : Nat, j ≤ 4 ∧ Hid (v = u / 256 ^ j) ∧ v ≤ u ∧ t1 = .int .i32 (v : Int) ∧ t6 = .int .i64 (3 - (j : Int)) ∧ Hid (SU w 4 hiF p m (stB false 4 u j) wx)) (fun _ t6 _ => (intOf t6 + 1).toNat)
  case atStart => exact ⟨0, u, by omega, (by simp : u = u / 256 ^ 0), by omega, rfl, rfl, sp⟩
  case round =>
    obtain ⟨j, v, hj, hv, hvu, rfl, rfl, spx⟩ := hrel
    have f3 := cell_at spx.out.form 3 (v := hiF) rfl
    have f0 := cell_at spx.out.form 0 (v := .int .i64 4) rfl
    clear sp
    have hj : j = 0 ∨ j = 1 ∨ j = 2 ∨ j = 3 ∨ j = 4 := by omega
    rcases hj with rfl | rfl | rfl | rfl | rfl
    · have xr := spx.out.own.cell 3 (by simp [stB_length])
      have xf := spx.out.own.free 3
      have hst := byt_mod u v 0 hv.out
      have sp2 : Hid (SU w 4 hiF p m (stB false 4 u 1) (wr.setCell ⟨w.heap.size + 1, 3, none⟩ (.int .u8 ((byt u 0).toNat : Int)))) := by
        refine (?_ : SU _ _ _ _ _ _ _)
        have := spx.out.set 3 (by simp [stB_length]) (byt u 0)
        have e := stB_set false 4 u 0 (by omega)
        rw [← e]
        exact this
      go_wp2
      go_roundw
      case rel => exact ⟨1, v / 256, by omega, (by rw [hv.out]; exact div_256 u _ : v / 256 = u / 256 ^ 1), by omega, i32_div v, rfl, sp2⟩
      case measure => simp [intOf]
    · have xr := spx.out.own.cell 2 (by simp [stB_length])
      have xf := spx.out.own.free 2
      have hst := byt_mod u v 1 hv.out
      have sp2 : Hid (SU w 4 hiF p m (stB false 4 u 2) (wr.setCell ⟨w.heap.size + 1, 2, none⟩ (.int .u8 ((byt u 1).toNat : Int)))) := by
        refine (?_ : SU _ _ _ _ _ _ _)
        have := spx.out.set 2 (by simp [stB_length]) (byt u 1)
        have e := stB_set false 4 u 1 (by omega)
        rw [← e]
        exact this
      go_wp2
      go_roundw
      case rel => exact ⟨2, v / 256, by omega, (by rw [hv.out]; exact div_256 u _ : v / 256 = u / 256 ^ 2), by omega, i32_div v, rfl, sp2⟩
      case measure => simp [intOf]
    · have xr := spx.out.own.cell 1 (by simp [stB_length])
      have xf := spx.out.own.free 1
      have hst := byt_mod u v 2 hv.out
      have sp2 : Hid (SU w 4 hiF p m (stB false 4 u 3) (wr.setCell ⟨w.heap.size + 1, 1, none⟩ (.int .u8 ((byt u 2).toNat : Int)))) := by
        refine (?_ : SU _ _ _ _ _ _ _)
        have := spx.out.set 1 (by simp [stB_length]) (byt u 2)
        have e := stB_set false 4 u 2 (by omega)
        rw [← e]
        exact this
      go_wp2
      go_roundw
      case rel => exact ⟨3, v / 256, by omega, (by rw [hv.out]; exact div_256 u _ : v / 256 = u / 256 ^ 3), by omega, i32_div v, rfl, sp2⟩
      case measure => simp [intOf]
    · have xr := spx.out.own.cell 0 (by simp [stB_length])
      have xf := spx.out.own.free 0
      have hst := byt_mod u v 3 hv.out
      have sp2 : Hid (SU w 4 hiF p m (stB false 4 u 4) (wr.setCell ⟨w.heap.size + 1, 0, none⟩ (.int .u8 ((byt u 3).toNat : Int)))) := by
        refine (?_ : SU _ _ _ _ _ _ _)
        have := spx.out.set 0 (by simp [stB_length]) (byt u 3)
        have e := stB_set false 4 u 3 (by omega)
        rw [← e]
        exact this
      go_wp2
      go_roundw
      case rel => exact ⟨4, v / 256, by omega, (by rw [hv.out]; exact div_256 u _ : v / 256 = u / 256 ^ 4), by omega, i32_div v, rfl, sp2⟩
      case measure => simp [intOf]
    · have sp2 : Hid (SU w 4 hiF p m (unitB false 4 u) wr) := by
        refine (?_ : SU _ _ _ _ _ _ _)
        rw [← stB_all]
        exact spx.out
      have hcv : (convert 25 9 (.slice (some ⟨w.heap.size + 1, 0, none⟩) 4 4)).run Try.prog wr = .ok (.string (str (unitB false 4 u))) wr := by
        have := conv (P := Try.prog) sp2.out.own.bytes 25 9 4 Try.underlying25 Try.underlying5 Try.underlying9
        rwa [unitB_length] at this
      clear spx
      go_wp2
      go_ret
      exact ⟨rfl, sp2.out.g⟩

set_option maxRecDepth 100000 in
set_option maxHeartbeats 4000000 in
theorem unit_lo4 (p m : Bool) (u : Nat) (hu : u < 2147483648) (w : World) :
    Calls Try.prog 30 #[.agg #[.int .i64 4, .bool p, .bool m, loF], .int .i32 (u : Int)] w fun e w' => e = .returned (.string (str (unitB true 4 u))) ∧ w.grownBy w' none := by
  have hmk := mk4
  have hu' : u ≤ 2147483647 := by omega
  clear hu
  go_enter Try.func30, Try.ntmps30
  go_wp2
  have sp : Hid (SU w 4 loF p m (stB true 4 u 0) ((w.alloc (.cells #[.int .i64 4, .bool p, .bool m, loF] 45)).alloc (.cells #[.int .u8 0, .int .u8 0, .int .u8 0, .int .u8 0] 5))) := by
    refine (?_ : SU _ _ _ _ _ _ _)
    rw [stB_zero]
    exact SU.make w 4 loF p m _ rfl (by omega)
  go_loopw [1, 6] (fun t1 t6 wx => ∃ j v : Nat, j ≤ 4 ∧ Hid (v = u / 256 ^ j) ∧ v ≤ u ∧ t1 = .int .i32 (v : Int) ∧ t6 = .int .i64 (3 - (j : Int)) ∧ Hid (SU w 4 loF p m (stB true 4 u j) wx)) (fun _ t6 _ => (intOf t6 + 1).toNat)
  case atStart => exact ⟨0, u, by omega, (by simp : u = u / 256 ^ 0), by omega, rfl, rfl, sp⟩
  case round =>
    obtain ⟨j, v, hj, hv, hvu, rfl, rfl, spx⟩ := hrel
    have f3 := cell_at spx.out.form 3 (v := loF) rfl
    have f0 := cell_at spx.out.form 0 (v := .int .i64 4) rfl
    clear sp
    have hj : j = 0 ∨ j = 1 ∨ j = 2 ∨ j = 3 ∨ j = 4 := by omega
    rcases hj with rfl | rfl | rfl | rfl | rfl
    · have xr := spx.out.own.cell 0 (by simp [stB_length])
      have xf := spx.out.own.free 0
      have hst := byt_mod u v 0 hv.out
      have sp2 : Hid (SU w 4 loF p m (stB true 4 u 1) (wr.setCell ⟨w.heap.size + 1, 0, none⟩ (.int .u8 ((byt u 0).toNat : Int)))) := by
        refine (?_ : SU _ _ _ _ _ _ _)
        have := spx.out.set 0 (by simp [stB_length]) (byt u 0)
        have e := stB_set true 4 u 0 (by omega)
        rw [← e]
        exact this
      go_wp2
      go_roundw
      case rel => exact ⟨1, v / 256, by omega, (by rw [hv.out]; exact div_256 u _ : v / 256 = u / 256 ^ 1), by omega, i32_div v, rfl, sp2⟩
      case measure => simp [intOf]
    · have xr := spx.out.own.cell 1 (by simp [stB_length])
      have xf := spx.out.own.free 1
      have hst := byt_mod u v 1 hv.out
      have sp2 : Hid (SU w 4 loF p m (stB true 4 u 2) (wr.setCell ⟨w.heap.size + 1, 1, none⟩ (.int .u8 ((byt u 1).toNat : Int)))) := by
        refine (?_ : SU _ _ _ _ _ _ _)
        have := spx.out.set 1 (by simp [stB_length]) (byt u 1)
        have e := stB_set true 4 u 1 (by omega)
        rw [← e]
        exact this
      go_wp2
      go_roundw
      case rel => exact ⟨2, v / 256, by omega, (by rw [hv.out]; exact div_256 u _ : v / 256 = u / 256 ^ 2), by omega, i32_div v, rfl, sp2⟩
      case measure => simp [intOf]
    · have xr := spx.out.own.cell 2 (by simp [stB_length])
      have xf := spx.out.own.free 2
      have hst := byt_mod u v 2 hv.out
      have sp2 : Hid (SU w 4 loF p m (stB true 4 u 3) (wr.setCell ⟨w.heap.size + 1, 2, none⟩ (.int .u8 ((byt u 2).toNat : Int)))) := by
        refine (?_ : SU _ _ _ _ _ _ _)
        have := spx.out.set 2 (by simp [stB_length]) (byt u 2)
        have e := stB_set true 4 u 2 (by omega)
        rw [← e]
        exact this
      go_wp2
      go_roundw
      case rel => exact ⟨3, v / 256, by omega, (by rw [hv.out]; exact div_256 u _ : v / 256 = u / 256 ^ 3), by omega, i32_div v, rfl, sp2⟩
      case measure => simp [intOf]
    · have xr := spx.out.own.cell 3 (by simp [stB_length])
      have xf := spx.out.own.free 3
      have hst := byt_mod u v 3 hv.out
      have sp2 : Hid (SU w 4 loF p m (stB true 4 u 4) (wr.setCell ⟨w.heap.size + 1, 3, none⟩ (.int .u8 ((byt u 3).toNat : Int)))) := by
        refine (?_ : SU _ _ _ _ _ _ _)
        have := spx.out.set 3 (by simp [stB_length]) (byt u 3)
        have e := stB_set true 4 u 3 (by omega)
        rw [← e]
        exact this
      go_wp2
      go_roundw
      case rel => exact ⟨4, v / 256, by omega, (by rw [hv.out]; exact div_256 u _ : v / 256 = u / 256 ^ 4), by omega, i32_div v, rfl, sp2⟩
      case measure => simp [intOf]
    · have sp2 : Hid (SU w 4 loF p m (unitB true 4 u) wr) := by
        refine (?_ : SU _ _ _ _ _ _ _)
        rw [← stB_all]
        exact spx.out
      have hcv : (convert 25 9 (.slice (some ⟨w.heap.size + 1, 0, none⟩) 4 4)).run Try.prog wr = .ok (.string (str (unitB true 4 u))) wr := by
        have := conv (P := Try.prog) sp2.out.own.bytes 25 9 4 Try.underlying25 Try.underlying5 Try.underlying9
        rwa [unitB_length] at this
      clear spx
      go_wp2
      go_ret
      exact ⟨rfl, sp2.out.g⟩

theorem unit_any (k : Nat) (low : Bool) (hk : k = fnOf low) (n : Nat) (hn : n = 2 ∨ n = 4) (p m : Bool) (u : Nat) (hu : u < 2147483648) (v : Int) (hv : v = (u : Int)) (w : World) (s : ByteArray) (hs : str (unitB low n u) = s) :
    Calls Try.prog 30 #[.agg #[.int .i64 (n : Int), .bool p, .bool m, .func (.func k) #[] #[]], .int .i32 v] w fun e w' => e = .returned (.string s) ∧ w.grownBy w' none := by
  subst hk hv hs
  rcases hn with rfl | rfl <;> cases low
  · exact unit_hi2 p m u hu w
  · exact unit_lo2 p m u hu w
  · exact unit_hi4 p m u hu w
  · exact unit_lo4 p m u hu w
end Go.Proofs.Ytkfcciacoplgmaa.Wd
