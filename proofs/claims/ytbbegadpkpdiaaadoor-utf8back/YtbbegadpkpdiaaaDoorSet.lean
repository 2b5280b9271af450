/- The program's step that puts out a scalar: a walk. -/
import Derived.Test.YtbbegadpkpdiaaaDoorLeads
import Derived.Test.YtbbegadpkpdiaaaDoorUnit
import Derived.Deep.RegionHeld3
namespace Go.Proofs.YtbbegadpkpdiaaaDoor.U8
open Go.ChangeShapes Go.WideShapes Go.ChangeAt Go.RowKit Go.Proofs.YtbbegadpkpdiaaaDoor.Mem Go.Proofs.YtbbegadpkpdiaaaDoor.Ucs
set_option linter.unusedVariables false

abbrev zeroPut : Obj := .cells #[.int .i64 0, .string ⟨#[]⟩, .int .i64 0, .int .i64 0, .int .u32 0, .int .i32 0] 32
theorem formOfScalar_lit (u : Int) (h0 : 0 ≤ u) (w : World) (hF : Forms w) (k : Nat) (hk : ixS u = k) :
    Calls Tryd.prog 24 #[.int .i32 u] w fun e w' => e = .returned (.agg #[.int .i64 (fsize k : Int), .int .u8 (fmask k : Int), .int .u8 (fmark k : Int), .int .i32 (fleast k : Int)]) ∧ w.grownBy w' none := by
  subst hk; exact formOfScalar_any u h0 w hF

set_option maxHeartbeats 1000000 in
theorem set_none (u : Int) (w : World) (h : scB u = false) : Calls Tryd.prog 11 #[.int .i32 u] w fun e w' => e = .returned (putV 11 ⟨#[]⟩) ∧ w.grownBy w' none := by
  go_enter Tryd.func11, Tryd.ntmps11
  go_wp2_with (go_at_call 23; refine (scalar_any _ _).mono ?_; rintro e w' ⟨rfl, hw⟩; obtain rfl := hw)
  refine bodyPost_ret (v := putV 11 ⟨#[]⟩) (by simp [results, Tryd.results11, go_sem]) rfl ⟨rfl, ?_⟩
  exact World.grownBy_alloc _ _ _

theorem mk1 (w : World) : (Instr.makeSlice 22 (.int .i64 1) (.int .i64 1)).run Tryd.prog w = .ok (.slice (some ⟨w.heap.size, 0, none⟩) 1 1) (w.alloc (.cells #[.int .u8 0] 5)) := by kernel_rfl
theorem mk2 (w : World) : (Instr.makeSlice 22 (.int .i64 2) (.int .i64 2)).run Tryd.prog w = .ok (.slice (some ⟨w.heap.size, 0, none⟩) 2 2) (w.alloc (.cells #[.int .u8 0, .int .u8 0] 5)) := by kernel_rfl
theorem mk3 (w : World) : (Instr.makeSlice 22 (.int .i64 3) (.int .i64 3)).run Tryd.prog w = .ok (.slice (some ⟨w.heap.size, 0, none⟩) 3 3) (w.alloc (.cells #[.int .u8 0, .int .u8 0, .int .u8 0] 5)) := by kernel_rfl
theorem mk4 (w : World) : (Instr.makeSlice 22 (.int .i64 4) (.int .i64 4)).run Tryd.prog w = .ok (.slice (some ⟨w.heap.size, 0, none⟩) 4 4) (w.alloc (.cells #[.int .u8 0, .int .u8 0, .int .u8 0, .int .u8 0] 5)) := by kernel_rfl

theorem or_tl (v : Nat) : bits .or .u8 128 (bits .andNot .u8 ((v : Int) % 256) 192) = ((tl v).toNat : Int) := by
  have h : bits .or .u8 128 (bits .andNot .u8 ((v % 256 : Nat) : Int) 192) = ((128 + (v % 256) % 64 : Nat) : Int) := (show ∀ b : Fin 256, bits .or .u8 128 (bits .andNot .u8 ((b : Nat) : Int) 192) = ((128 + (b : Nat) % 64 : Nat) : Int) by decide +kernel) ⟨v % 256, Nat.mod_lt _ (by omega)⟩
  have e : ((v : Int) % 256) = ((v % 256 : Nat) : Int) := by omega
  rw [e, h]
  have : (tl v).toNat = 128 + v % 64 := by
    unfold tl
    rw [UInt8.toNat_ofNat']
    have := Nat.mod_lt v (show 0 < 64 by omega)
    omega
  rw [this]
  omega
theorem or_lead (k v : Nat) (hk : k < 4) (hv : v < 128 / 2 ^ k) (hv' : k ≠ 0 → v < 64 / 2 ^ k) : bits .or .u8 (fmark k : Int) ((v : Int) % 256) = ((UInt8.ofNat (fmark k + v)).toNat : Int) := by
  have h := (show ∀ (k : Fin 4) (b : Fin 128), (b : Nat) < 128 / 2 ^ (k : Nat) → ((k : Nat) ≠ 0 → (b : Nat) < 64 / 2 ^ (k : Nat)) → bits .or .u8 (fmark k : Int) (((b : Nat) : Int) % 256) = ((UInt8.ofNat (fmark k + (b : Nat))).toNat : Int) by decide +kernel) ⟨k, hk⟩ ⟨v, by
    have : 128 / 2 ^ k ≤ 128 := Nat.div_le_self _ _
    omega⟩ hv hv'
  exact h

/-- Where the step stands: its result's block, the form's block, the row that it writes. -/
structure SP (w : World) (fb k n : Nat) (L : List UInt8) (wx : World) : Prop where
  g : (w.alloc zeroPut).grownBy wx none
  form : wx.heap[fb]? = some (.cells (formA k) 49 (0, 0))
  own : Own wx (some ⟨fb + 1, 0, none⟩) n L
  lt : w.heap.size < fb
theorem SP.set {w wx : World} {fb k n : Nat} {L : List UInt8} (h : SP w fb k n L wx) (j : Nat) (hj : j < L.length) (c : UInt8) : SP w fb k n (L.set j c) (wx.setCell ⟨fb + 1, j, none⟩ (.int .u8 (c.toNat : Int))) :=
  ⟨sets_new h.g (b := fb + 1) (by have := h.lt; simp; omega) (grownBy_setCell _ _ _), block_other h.form (by omega) _ _, h.own.set j hj c, h.lt⟩
theorem SP.res {w wx : World} {fb k n : Nat} {L : List UInt8} (h : SP w fb k n L wx) : wx.heap[w.heap.size]? = some zeroPut := res_cells h.g
theorem SP.wrote {w wx : World} {fb k n : Nat} {L : List UInt8} (h : SP w fb k n L wx) {wy : World} (hy : wx.grownBy wy (some w.heap.size)) : w.grownBy wy none :=
  sets_new (grownBy_trans (World.grownBy_alloc _ _ _) h.g) (Nat.le_refl _) hy
theorem grownBy_sets6 (wx : World) (b : Nat) (v0 v1 v2 v3 v4 v5 : Value) :
    wx.grownBy ((((((wx.setCell ⟨b, 0, none⟩ v0).setCell ⟨b, 1, none⟩ v1).setCell ⟨b, 2, none⟩ v2).setCell ⟨b, 3, none⟩ v3).setCell ⟨b, 4, none⟩ v4).setCell ⟨b, 5, none⟩ v5) (some b) := by
  have h1 := fun (u : World) (x : Nat) (v : Value) => grownBy_setCell u ⟨b, x, none⟩ v
  exact grownBy_trans (grownBy_trans (grownBy_trans (grownBy_trans (grownBy_trans (h1 _ _ _) (h1 _ _ _)) (h1 _ _ _)) (h1 _ _ _)) (h1 _ _ _)) (h1 _ _ _)
theorem i32_div (v : Nat) : Value.int .i32 ((v : Int) / 64) = .int .i32 ((v / 64 : Nat) : Int) := by
  have h : (v : Int) / 64 = ((v / 64 : Nat) : Int) := by omega
  rw [h]
theorem div_64 (u j : Nat) : u / 64 ^ j / 64 = u / 64 ^ (j + 1) := by rw [Nat.div_div_eq_div_mul, Nat.pow_succ]
theorem Hid.mk'' {p : Prop} (h : p) : Hid p := h

set_option maxRecDepth 100000 in
set_option maxHeartbeats 4000000 in
theorem set_0 (u : Nat) (w : World) (hF : Forms w) (h : scB (u : Int) = true) (hlo : 0 ≤ u) (hhi : u ≤ 127) : Calls Tryd.prog 11 #[.int .i32 (u : Int)] w fun e w' => e = .returned (putV 0 (str (unit u))) ∧ w.grownBy w' none := by
  have hF1 : Hid (Forms (w.alloc zeroPut)) := hF.alloc _
  have hk : ixS (u : Int) = 0 := by unfold ixS; rw [if_pos (by omega)]
  have hmk := mk1
  have hu : Hid (unit u = [UInt8.ofNat u]) := by
    refine (?_ : unit u = _)
    unfold unit
    rw [if_pos (by omega)]
  clear hF
  go_enter Tryd.func11, Tryd.ntmps11
  go_wp2_with (first | (go_at_call 23; refine (scalar_any _ _).mono ?_; rintro e w' ⟨rfl, hw⟩; obtain rfl := hw) | (go_at_call 24; refine (formOfScalar_lit (u : Int) (by omega) _ hF1.out 0 hk).mono ?_; rintro e w1 ⟨rfl, hg1⟩; simp only [fsize, fmask, fmark, fleast]))
  have sp : Hid (SP w w1.heap.size 0 1 ([0] ++ tls 0 u) ((w1.alloc (.cells #[.int .i64 1, .int .u8 128, .int .u8 0, .int .i32 0] 49)).alloc (.cells #[.int .u8 0] 5))) := by
    refine (?_ : SP _ _ _ _ _ _)
    refine ⟨grownBy_trans hg1 (grownBy_trans (World.grownBy_alloc _ _ _) (World.grownBy_alloc _ _ _)), res_alloc (heap_alloc_new w1 _) _, .inr ⟨w1.heap.size + 1, #[.int .u8 0], rfl, ?_, by simp [tls], by simp [maxLen], rfl, rfl⟩, ?_⟩
    · have := heap_alloc_new (w1.alloc (.cells #[.int .i64 1, .int .u8 128, .int .u8 0, .int .i32 0] 49)) (.cells #[.int .u8 0] 5)
      simpa using this
    · have := hg1.size
      simp at this
      omega
  generalize w1.heap.size = fb at *
  go_loopw [0, 5] (fun t0 t5 wx => ∃ j v : Nat, j ≤ 0 ∧ Hid (v = u / 64 ^ j) ∧ v ≤ u ∧ t0 = .int .i32 (v : Int) ∧ t5 = .int .i64 ((0 - j : Nat) : Int) ∧ Hid (SP w fb 0 1 (List.replicate (1 - j) 0 ++ tls j u) wx)) (fun _ t5 _ => (intOf t5).toNat)
  case atStart => exact ⟨0, u, by omega, (by simp : u = u / 64 ^ 0), by omega, rfl, rfl, sp⟩
  case round =>
    obtain ⟨j, v, hj, hv, hvu, rfl, rfl, spx⟩ := hrel
    have f2 := cell_at spx.out.form 2 (v := .int .u8 0) rfl
    have f0 := cell_at spx.out.form 0 (v := .int .i64 1) rfl
    clear sp
    obtain rfl : j = 0 := by omega
    have xr := spx.out.own.cell 0 (by simp [tls_length])
    have xf := spx.out.own.free 0
    have hvb : v < 128 := by have := hv.out; simp at this; omega
    obtain ⟨x, hx⟩ : ∃ x : UInt8, x = UInt8.ofNat (0 + v) := ⟨_, rfl⟩
    have hld : bits .or .u8 0 ((v : Int) % 256) = (x.toNat : Int) := by rw [hx]; exact or_lead 0 v (by omega) (by omega) (by omega)
    have hld' : bits .or .u8 0 (v : Int) = (x.toNat : Int) := by rw [← hld]; congr 1; omega
    have sp2 : Hid (SP w fb 0 1 (unit u) (wr.setCell ⟨fb + 1, 0, none⟩ (.int .u8 (x.toNat : Int)))) := by
      refine (?_ : SP _ _ _ _ _ _)
      have := spx.out.set 0 (by simp [tls_length]) x
      rw [hu.out]
      rw [hx, hv.out] at this ⊢
      simpa [tls] using this
    have hcv : (convert 22 9 (.slice (some ⟨fb + 1, 0, none⟩) 1 1)).run Tryd.prog (wr.setCell ⟨fb + 1, 0, none⟩ (.int .u8 (x.toNat : Int))) = .ok (.string (str (unit u))) (wr.setCell ⟨fb + 1, 0, none⟩ (.int .u8 (x.toNat : Int))) := by
      have := conv (P := Tryd.prog) sp2.out.own.bytes 22 9 1 Tryd.underlying22 Tryd.underlying5 Tryd.underlying9
      have hl : (unit u).length = 1 := by rw [hu.out]; simp
      rwa [hl] at this
    have hr2 := sp2.out.res
    have r0 := cell_at hr2 0 rfl; have r1 := cell_at hr2 1 rfl; have r2 := cell_at hr2 2 rfl; have r3 := cell_at hr2 3 rfl; have r4 := cell_at hr2 4 rfl; have r5 := cell_at hr2 5 rfl
    have fz := froz_at hr2
    clear hr2 hx
    go_wp2
    refine bodyPost_ret (v := putV 0 (str (unit u))) (by simp [results, Tryd.results11, go_sem, r0, r1, r2, r3, r4, r5]) rfl ⟨rfl, ?_⟩
    exact sp2.out.wrote (grownBy_sets6 _ _ _ _ _ _ _ _)

set_option maxRecDepth 100000 in
set_option maxHeartbeats 4000000 in
theorem set_1 (u : Nat) (w : World) (hF : Forms w) (h : scB (u : Int) = true) (hlo : 128 ≤ u) (hhi : u ≤ 2047) : Calls Tryd.prog 11 #[.int .i32 (u : Int)] w fun e w' => e = .returned (putV 0 (str (unit u))) ∧ w.grownBy w' none := by
  have hF1 : Hid (Forms (w.alloc zeroPut)) := hF.alloc _
  have hk : ixS (u : Int) = 1 := by unfold ixS; rw [if_neg (by omega)]; rw [if_pos (by omega)]
  have hmk := mk2
  have hu : Hid (unit u = UInt8.ofNat (192 + u / 64) :: tls 1 u) := by
    refine (?_ : unit u = _)
    unfold unit
    rw [if_neg (by omega)]; rw [if_pos (by omega)]
  clear hF
  go_enter Tryd.func11, Tryd.ntmps11
  go_wp2_with (first | (go_at_call 23; refine (scalar_any _ _).mono ?_; rintro e w' ⟨rfl, hw⟩; obtain rfl := hw) | (go_at_call 24; refine (formOfScalar_lit (u : Int) (by omega) _ hF1.out 1 hk).mono ?_; rintro e w1 ⟨rfl, hg1⟩; simp only [fsize, fmask, fmark, fleast]))
  have sp : Hid (SP w w1.heap.size 1 2 ([0, 0] ++ tls 0 u) ((w1.alloc (.cells #[.int .i64 2, .int .u8 224, .int .u8 192, .int .i32 128] 49)).alloc (.cells #[.int .u8 0, .int .u8 0] 5))) := by
    refine (?_ : SP _ _ _ _ _ _)
    refine ⟨grownBy_trans hg1 (grownBy_trans (World.grownBy_alloc _ _ _) (World.grownBy_alloc _ _ _)), res_alloc (heap_alloc_new w1 _) _, .inr ⟨w1.heap.size + 1, #[.int .u8 0, .int .u8 0], rfl, ?_, by simp [tls], by simp [maxLen], rfl, rfl⟩, ?_⟩
    · have := heap_alloc_new (w1.alloc (.cells #[.int .i64 2, .int .u8 224, .int .u8 192, .int .i32 128] 49)) (.cells #[.int .u8 0, .int .u8 0] 5)
      simpa using this
    · have := hg1.size
      simp at this
      omega
  generalize w1.heap.size = fb at *
  go_loopw [0, 5] (fun t0 t5 wx => ∃ j v : Nat, j ≤ 1 ∧ Hid (v = u / 64 ^ j) ∧ v ≤ u ∧ t0 = .int .i32 (v : Int) ∧ t5 = .int .i64 ((1 - j : Nat) : Int) ∧ Hid (SP w fb 1 2 (List.replicate (2 - j) 0 ++ tls j u) wx)) (fun _ t5 _ => (intOf t5).toNat)
  case atStart => exact ⟨0, u, by omega, (by simp : u = u / 64 ^ 0), by omega, rfl, rfl, sp⟩
  case round =>
    obtain ⟨j, v, hj, hv, hvu, rfl, rfl, spx⟩ := hrel
    have f2 := cell_at spx.out.form 2 (v := .int .u8 192) rfl
    have f0 := cell_at spx.out.form 0 (v := .int .i64 2) rfl
    clear sp
    have hj : j = 0 ∨ j = 1 := by omega
    rcases hj with rfl | rfl
    · have xr := spx.out.own.cell 1 (by simp [tls_length])
      have xf := spx.out.own.free 1
      have hst := or_tl v
      have sp2 : Hid (SP w fb 1 2 (List.replicate (2 - 1) 0 ++ tls 1 u) (wr.setCell ⟨fb + 1, 1, none⟩ (.int .u8 ((tl v).toNat : Int)))) := by
        refine (?_ : SP _ _ _ _ _ _)
        have := spx.out.set 1 (by simp [tls_length]) (tl v)
        rw [hv.out] at this ⊢
        exact this
      go_wp2
      go_roundw
      case rel => exact ⟨1, v / 64, by omega, (by rw [hv.out]; exact div_64 u _ : v / 64 = u / 64 ^ 1), by omega, i32_div v, rfl, sp2⟩
      case measure => simp [intOf]
    · have xr := spx.out.own.cell 0 (by simp [tls_length])
      have xf := spx.out.own.free 0
      have hvb : v < 32 := by have := hv.out; omega
      obtain ⟨x, hx⟩ : ∃ x : UInt8, x = UInt8.ofNat (192 + v) := ⟨_, rfl⟩
      have hld : bits .or .u8 192 ((v : Int) % 256) = (x.toNat : Int) := by rw [hx]; exact or_lead 1 v (by omega) (by omega) (by omega)
      have hld' : bits .or .u8 192 (v : Int) = (x.toNat : Int) := by rw [← hld]; congr 1; omega
      have sp2 : Hid (SP w fb 1 2 (unit u) (wr.setCell ⟨fb + 1, 0, none⟩ (.int .u8 (x.toNat : Int)))) := by
        refine (?_ : SP _ _ _ _ _ _)
        have := spx.out.set 0 (by simp [tls_length]) x
        rw [hu.out]
        rw [hx, hv.out] at this ⊢
        exact this
      have hcv : (convert 22 9 (.slice (some ⟨fb + 1, 0, none⟩) 2 2)).run Tryd.prog (wr.setCell ⟨fb + 1, 0, none⟩ (.int .u8 (x.toNat : Int))) = .ok (.string (str (unit u))) (wr.setCell ⟨fb + 1, 0, none⟩ (.int .u8 (x.toNat : Int))) := by
        have := conv (P := Tryd.prog) sp2.out.own.bytes 22 9 2 Tryd.underlying22 Tryd.underlying5 Tryd.underlying9
        have hl : (unit u).length = 2 := by rw [hu.out]; simp [tls_length]
        rwa [hl] at this
      have hr2 := sp2.out.res
      have r0 := cell_at hr2 0 rfl; have r1 := cell_at hr2 1 rfl; have r2 := cell_at hr2 2 rfl; have r3 := cell_at hr2 3 rfl; have r4 := cell_at hr2 4 rfl; have r5 := cell_at hr2 5 rfl
      have fz := froz_at hr2
      clear hr2 hx
      go_wp2
      refine bodyPost_ret (v := putV 0 (str (unit u))) (by simp [results, Tryd.results11, go_sem, r0, r1, r2, r3, r4, r5]) rfl ⟨rfl, ?_⟩
      exact sp2.out.wrote (grownBy_sets6 _ _ _ _ _ _ _ _)

set_option maxRecDepth 100000 in
set_option maxHeartbeats 4000000 in
theorem set_2 (u : Nat) (w : World) (hF : Forms w) (h : scB (u : Int) = true) (hlo : 2048 ≤ u) (hhi : u ≤ 65535) : Calls Tryd.prog 11 #[.int .i32 (u : Int)] w fun e w' => e = .returned (putV 0 (str (unit u))) ∧ w.grownBy w' none := by
  have hF1 : Hid (Forms (w.alloc zeroPut)) := hF.alloc _
  have hk : ixS (u : Int) = 2 := by unfold ixS; rw [if_neg (by omega)]; rw [if_neg (by omega)]; rw [if_pos (by omega)]
  have hmk := mk3
  have hu : Hid (unit u = UInt8.ofNat (224 + u / 4096) :: tls 2 u) := by
    refine (?_ : unit u = _)
    unfold unit
    rw [if_neg (by omega)]; rw [if_neg (by omega)]; rw [if_pos (by omega)]
  clear hF
  go_enter Tryd.func11, Tryd.ntmps11
  go_wp2_with (first | (go_at_call 23; refine (scalar_any _ _).mono ?_; rintro e w' ⟨rfl, hw⟩; obtain rfl := hw) | (go_at_call 24; refine (formOfScalar_lit (u : Int) (by omega) _ hF1.out 2 hk).mono ?_; rintro e w1 ⟨rfl, hg1⟩; simp only [fsize, fmask, fmark, fleast]))
  have sp : Hid (SP w w1.heap.size 2 3 ([0, 0, 0] ++ tls 0 u) ((w1.alloc (.cells #[.int .i64 3, .int .u8 240, .int .u8 224, .int .i32 2048] 49)).alloc (.cells #[.int .u8 0, .int .u8 0, .int .u8 0] 5))) := by
    refine (?_ : SP _ _ _ _ _ _)
    refine ⟨grownBy_trans hg1 (grownBy_trans (World.grownBy_alloc _ _ _) (World.grownBy_alloc _ _ _)), res_alloc (heap_alloc_new w1 _) _, .inr ⟨w1.heap.size + 1, #[.int .u8 0, .int .u8 0, .int .u8 0], rfl, ?_, by simp [tls], by simp [maxLen], rfl, rfl⟩, ?_⟩
    · have := heap_alloc_new (w1.alloc (.cells #[.int .i64 3, .int .u8 240, .int .u8 224, .int .i32 2048] 49)) (.cells #[.int .u8 0, .int .u8 0, .int .u8 0] 5)
      simpa using this
    · have := hg1.size
      simp at this
      omega
  generalize w1.heap.size = fb at *
  go_loopw [0, 5] (fun t0 t5 wx => ∃ j v : Nat, j ≤ 2 ∧ Hid (v = u / 64 ^ j) ∧ v ≤ u ∧ t0 = .int .i32 (v : Int) ∧ t5 = .int .i64 ((2 - j : Nat) : Int) ∧ Hid (SP w fb 2 3 (List.replicate (3 - j) 0 ++ tls j u) wx)) (fun _ t5 _ => (intOf t5).toNat)
  case atStart => exact ⟨0, u, by omega, (by simp : u = u / 64 ^ 0), by omega, rfl, rfl, sp⟩
  case round =>
    obtain ⟨j, v, hj, hv, hvu, rfl, rfl, spx⟩ := hrel
    have f2 := cell_at spx.out.form 2 (v := .int .u8 224) rfl
    have f0 := cell_at spx.out.form 0 (v := .int .i64 3) rfl
    clear sp
    have hj : j = 0 ∨ j = 1 ∨ j = 2 := by omega
    rcases hj with rfl | rfl | rfl
    · have xr := spx.out.own.cell 2 (by simp [tls_length])
      have xf := spx.out.own.free 2
      have hst := or_tl v
      have sp2 : Hid (SP w fb 2 3 (List.replicate (3 - 1) 0 ++ tls 1 u) (wr.setCell ⟨fb + 1, 2, none⟩ (.int .u8 ((tl v).toNat : Int)))) := by
        refine (?_ : SP _ _ _ _ _ _)
        have := spx.out.set 2 (by simp [tls_length]) (tl v)
        rw [hv.out] at this ⊢
        exact this
      go_wp2
      go_roundw
      case rel => exact ⟨1, v / 64, by omega, (by rw [hv.out]; exact div_64 u _ : v / 64 = u / 64 ^ 1), by omega, i32_div v, rfl, sp2⟩
      case measure => simp [intOf]
    · have xr := spx.out.own.cell 1 (by simp [tls_length])
      have xf := spx.out.own.free 1
      have hst := or_tl v
      have sp2 : Hid (SP w fb 2 3 (List.replicate (3 - 2) 0 ++ tls 2 u) (wr.setCell ⟨fb + 1, 1, none⟩ (.int .u8 ((tl v).toNat : Int)))) := by
        refine (?_ : SP _ _ _ _ _ _)
        have := spx.out.set 1 (by simp [tls_length]) (tl v)
        rw [hv.out] at this ⊢
        exact this
      go_wp2
      go_roundw
      case rel => exact ⟨2, v / 64, by omega, (by rw [hv.out]; exact div_64 u _ : v / 64 = u / 64 ^ 2), by omega, i32_div v, rfl, sp2⟩
      case measure => simp [intOf]
    · have xr := spx.out.own.cell 0 (by simp [tls_length])
      have xf := spx.out.own.free 0
      have hvb : v < 16 := by have := hv.out; omega
      obtain ⟨x, hx⟩ : ∃ x : UInt8, x = UInt8.ofNat (224 + v) := ⟨_, rfl⟩
      have hld : bits .or .u8 224 ((v : Int) % 256) = (x.toNat : Int) := by rw [hx]; exact or_lead 2 v (by omega) (by omega) (by omega)
      have hld' : bits .or .u8 224 (v : Int) = (x.toNat : Int) := by rw [← hld]; congr 1; omega
      have sp2 : Hid (SP w fb 2 3 (unit u) (wr.setCell ⟨fb + 1, 0, none⟩ (.int .u8 (x.toNat : Int)))) := by
        refine (?_ : SP _ _ _ _ _ _)
        have := spx.out.set 0 (by simp [tls_length]) x
        rw [hu.out]
        rw [hx, hv.out] at this ⊢
        exact this
      have hcv : (convert 22 9 (.slice (some ⟨fb + 1, 0, none⟩) 3 3)).run Tryd.prog (wr.setCell ⟨fb + 1, 0, none⟩ (.int .u8 (x.toNat : Int))) = .ok (.string (str (unit u))) (wr.setCell ⟨fb + 1, 0, none⟩ (.int .u8 (x.toNat : Int))) := by
        have := conv (P := Tryd.prog) sp2.out.own.bytes 22 9 3 Tryd.underlying22 Tryd.underlying5 Tryd.underlying9
        have hl : (unit u).length = 3 := by rw [hu.out]; simp [tls_length]
        rwa [hl] at this
      have hr2 := sp2.out.res
      have r0 := cell_at hr2 0 rfl; have r1 := cell_at hr2 1 rfl; have r2 := cell_at hr2 2 rfl; have r3 := cell_at hr2 3 rfl; have r4 := cell_at hr2 4 rfl; have r5 := cell_at hr2 5 rfl
      have fz := froz_at hr2
      clear hr2 hx
      go_wp2
      refine bodyPost_ret (v := putV 0 (str (unit u))) (by simp [results, Tryd.results11, go_sem, r0, r1, r2, r3, r4, r5]) rfl ⟨rfl, ?_⟩
      exact sp2.out.wrote (grownBy_sets6 _ _ _ _ _ _ _ _)

set_option maxRecDepth 100000 in
set_option maxHeartbeats 4000000 in
theorem set_3 (u : Nat) (w : World) (hF : Forms w) (h : scB (u : Int) = true) (hlo : 65536 ≤ u) (hhi : u ≤ 1114111) : Calls Tryd.prog 11 #[.int .i32 (u : Int)] w fun e w' => e = .returned (putV 0 (str (unit u))) ∧ w.grownBy w' none := by
  have hF1 : Hid (Forms (w.alloc zeroPut)) := hF.alloc _
  have hk : ixS (u : Int) = 3 := by unfold ixS; rw [if_neg (by omega)]; rw [if_neg (by omega)]; rw [if_neg (by omega)];
  have hmk := mk4
  have hu : Hid (unit u = UInt8.ofNat (240 + u / 262144) :: tls 3 u) := by
    refine (?_ : unit u = _)
    unfold unit
    rw [if_neg (by omega)]; rw [if_neg (by omega)]; rw [if_neg (by omega)]
  clear hF
  go_enter Tryd.func11, Tryd.ntmps11
  go_wp2_with (first | (go_at_call 23; refine (scalar_any _ _).mono ?_; rintro e w' ⟨rfl, hw⟩; obtain rfl := hw) | (go_at_call 24; refine (formOfScalar_lit (u : Int) (by omega) _ hF1.out 3 hk).mono ?_; rintro e w1 ⟨rfl, hg1⟩; simp only [fsize, fmask, fmark, fleast]))
  have sp : Hid (SP w w1.heap.size 3 4 ([0, 0, 0, 0] ++ tls 0 u) ((w1.alloc (.cells #[.int .i64 4, .int .u8 248, .int .u8 240, .int .i32 65536] 49)).alloc (.cells #[.int .u8 0, .int .u8 0, .int .u8 0, .int .u8 0] 5))) := by
    refine (?_ : SP _ _ _ _ _ _)
    refine ⟨grownBy_trans hg1 (grownBy_trans (World.grownBy_alloc _ _ _) (World.grownBy_alloc _ _ _)), res_alloc (heap_alloc_new w1 _) _, .inr ⟨w1.heap.size + 1, #[.int .u8 0, .int .u8 0, .int .u8 0, .int .u8 0], rfl, ?_, by simp [tls], by simp [maxLen], rfl, rfl⟩, ?_⟩
    · have := heap_alloc_new (w1.alloc (.cells #[.int .i64 4, .int .u8 248, .int .u8 240, .int .i32 65536] 49)) (.cells #[.int .u8 0, .int .u8 0, .int .u8 0, .int .u8 0] 5)
      simpa using this
    · have := hg1.size
      simp at this
      omega
  generalize w1.heap.size = fb at *
  go_loopw [0, 5] (fun t0 t5 wx => ∃ j v : Nat, j ≤ 3 ∧ Hid (v = u / 64 ^ j) ∧ v ≤ u ∧ t0 = .int .i32 (v : Int) ∧ t5 = .int .i64 ((3 - j : Nat) : Int) ∧ Hid (SP w fb 3 4 (List.replicate (4 - j) 0 ++ tls j u) wx)) (fun _ t5 _ => (intOf t5).toNat)
  case atStart => exact ⟨0, u, by omega, (by simp : u = u / 64 ^ 0), by omega, rfl, rfl, sp⟩
  case round =>
    obtain ⟨j, v, hj, hv, hvu, rfl, rfl, spx⟩ := hrel
    have f2 := cell_at spx.out.form 2 (v := .int .u8 240) rfl
    have f0 := cell_at spx.out.form 0 (v := .int .i64 4) rfl
    clear sp
    have hj : j = 0 ∨ j = 1 ∨ j = 2 ∨ j = 3 := by omega
    rcases hj with rfl | rfl | rfl | rfl
    · have xr := spx.out.own.cell 3 (by simp [tls_length])
      have xf := spx.out.own.free 3
      have hst := or_tl v
      have sp2 : Hid (SP w fb 3 4 (List.replicate (4 - 1) 0 ++ tls 1 u) (wr.setCell ⟨fb + 1, 3, none⟩ (.int .u8 ((tl v).toNat : Int)))) := by
        refine (?_ : SP _ _ _ _ _ _)
        have := spx.out.set 3 (by simp [tls_length]) (tl v)
        rw [hv.out] at this ⊢
        exact this
      go_wp2
      go_roundw
      case rel => exact ⟨1, v / 64, by omega, (by rw [hv.out]; exact div_64 u _ : v / 64 = u / 64 ^ 1), by omega, i32_div v, rfl, sp2⟩
      case measure => simp [intOf]
    · have xr := spx.out.own.cell 2 (by simp [tls_length])
      have xf := spx.out.own.free 2
      have hst := or_tl v
      have sp2 : Hid (SP w fb 3 4 (List.replicate (4 - 2) 0 ++ tls 2 u) (wr.setCell ⟨fb + 1, 2, none⟩ (.int .u8 ((tl v).toNat : Int)))) := by
        refine (?_ : SP _ _ _ _ _ _)
        have := spx.out.set 2 (by simp [tls_length]) (tl v)
        rw [hv.out] at this ⊢
        exact this
      go_wp2
      go_roundw
      case rel => exact ⟨2, v / 64, by omega, (by rw [hv.out]; exact div_64 u _ : v / 64 = u / 64 ^ 2), by omega, i32_div v, rfl, sp2⟩
      case measure => simp [intOf]
    · have xr := spx.out.own.cell 1 (by simp [tls_length])
      have xf := spx.out.own.free 1
      have hst := or_tl v
      have sp2 : Hid (SP w fb 3 4 (List.replicate (4 - 3) 0 ++ tls 3 u) (wr.setCell ⟨fb + 1, 1, none⟩ (.int .u8 ((tl v).toNat : Int)))) := by
        refine (?_ : SP _ _ _ _ _ _)
        have := spx.out.set 1 (by simp [tls_length]) (tl v)
        rw [hv.out] at this ⊢
        exact this
      go_wp2
      go_roundw
      case rel => exact ⟨3, v / 64, by omega, (by rw [hv.out]; exact div_64 u _ : v / 64 = u / 64 ^ 3), by omega, i32_div v, rfl, sp2⟩
      case measure => simp [intOf]
    · have xr := spx.out.own.cell 0 (by simp [tls_length])
      have xf := spx.out.own.free 0
      have hvb : v < 8 := by have := hv.out; omega
      obtain ⟨x, hx⟩ : ∃ x : UInt8, x = UInt8.ofNat (240 + v) := ⟨_, rfl⟩
      have hld : bits .or .u8 240 ((v : Int) % 256) = (x.toNat : Int) := by rw [hx]; exact or_lead 3 v (by omega) (by omega) (by omega)
      have hld' : bits .or .u8 240 (v : Int) = (x.toNat : Int) := by rw [← hld]; congr 1; omega
      have sp2 : Hid (SP w fb 3 4 (unit u) (wr.setCell ⟨fb + 1, 0, none⟩ (.int .u8 (x.toNat : Int)))) := by
        refine (?_ : SP _ _ _ _ _ _)
        have := spx.out.set 0 (by simp [tls_length]) x
        rw [hu.out]
        rw [hx, hv.out] at this ⊢
        exact this
      have hcv : (convert 22 9 (.slice (some ⟨fb + 1, 0, none⟩) 4 4)).run Tryd.prog (wr.setCell ⟨fb + 1, 0, none⟩ (.int .u8 (x.toNat : Int))) = .ok (.string (str (unit u))) (wr.setCell ⟨fb + 1, 0, none⟩ (.int .u8 (x.toNat : Int))) := by
        have := conv (P := Tryd.prog) sp2.out.own.bytes 22 9 4 Tryd.underlying22 Tryd.underlying5 Tryd.underlying9
        have hl : (unit u).length = 4 := by rw [hu.out]; simp [tls_length]
        rwa [hl] at this
      have hr2 := sp2.out.res
      have r0 := cell_at hr2 0 rfl; have r1 := cell_at hr2 1 rfl; have r2 := cell_at hr2 2 rfl; have r3 := cell_at hr2 3 rfl; have r4 := cell_at hr2 4 rfl; have r5 := cell_at hr2 5 rfl
      have fz := froz_at hr2
      clear hr2 hx
      go_wp2
      refine bodyPost_ret (v := putV 0 (str (unit u))) (by simp [results, Tryd.results11, go_sem, r0, r1, r2, r3, r4, r5]) rfl ⟨rfl, ?_⟩
      exact sp2.out.wrote (grownBy_sets6 _ _ _ _ _ _ _ _)

theorem set_any (u : Int) (w : World) (hF : Forms w) : Calls Tryd.prog 11 #[.int .i32 u] w fun e w' => e = .returned (setV u) ∧ w.grownBy w' none := by
  unfold setV
  by_cases h : scB u = true
  · rw [if_pos h]
    obtain ⟨h0, h1, _⟩ := scB_iff.1 h
    obtain ⟨n, rfl⟩ := Int.eq_ofNat_of_zero_le h0
    rw [Int.toNat_natCast]
    by_cases c1 : n < 128
    · exact set_0 n w hF h (by omega) (by omega)
    by_cases c2 : n < 2048
    · exact set_1 n w hF h (by omega) (by omega)
    by_cases c3 : n < 65536
    · exact set_2 n w hF h (by omega) (by omega)
    · exact set_3 n w hF h (by omega) (by omega)
  · rw [if_neg h]
    exact set_none u w (by simpa using h)
end Go.Proofs.YtbbegadpkpdiaaaDoor.U8
