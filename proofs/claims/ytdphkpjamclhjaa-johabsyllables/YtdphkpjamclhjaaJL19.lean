/- JohabPlain: the walk. -/
import Derived.Test.YtdphkpjamclhjaaJY19
import Derived.Test.YtdphkpjamclhjaaCw
namespace Go.Proofs.Ytdphkpjamclhjaa.C19
open Go.ChangeShapes Go.WideShapes Go.ChangeAt Go.RowKit Go.Proofs.Ytdphkpjamclhjaa.Mem Go.Proofs.Ytdphkpjamclhjaa.Cb Go.Proofs.Ytdphkpjamclhjaa.Sp
set_option linter.unusedVariables false
set_option linter.unusedSimpArgs false

set_option maxRecDepth 100000 in
set_option maxHeartbeats 2000000 in
theorem plain_92 {P : World → Prop} (C : Con P) (u : Int) (hu : I32 u) (h1 : u = 92) (hS : sE u = (11, [])) (ao : Option Addr) (len cap : Nat) (w : World) (hw : P w) : Calls Try.prog 8 #[.int .i32 u, .slice ao len cap] w fun e w' => e = .returned (.bool true) ∧ w.grownBy w' none := by
  have a0 := Hid.mk' (fun w hw => works_any C w hw)
  have K := Hid.mk' (fun (a b : World) (h : P a) (g : a.grownBy b none) => C.keep h g)
  have hq := Hid.mk' hw
  have a1 : Hid (∀ w, P w → Calls Try.prog 11 #[.int .i32 u] w fun e w' => e = .returned (pV 11 ⟨#[]⟩) ∧ w.grownBy w' none) := C.put u hu _ _ hS
  have n92 : (u == 92) = true := by simp; omega
  clear hw C hu hS h1
  go_enter Try.func8, Try.ntmps8
  go_upto_region 3 with (go_at_call 17; refine (a0.out _ hq.out).mono ?_; rintro e w2 ⟨rfl, hg1, hp1⟩; have hq2 := Hid.mk' hp1; have hG0 := Hid.mk' hg1)
  clear hg1 hp1 a0 hq
  go_upto_region 4 with (first
    | (go_at_call 11; refine (a1.out _ hq2.out).mono ?_; rintro e w3 ⟨rfl, hg3⟩)
    | (refine wpList_allocC _ rfl 32 rfl (pZ 0 ⟨#[]⟩) (zeroP _) ?_; intro w4 p4 hg4)
    | (refine wpList_storeC _ rfl 32 _ _ rfl _ (pZ 0 ⟨#[]⟩) (pZ 11 ⟨#[]⟩) infoP rfl (pC_one _ _ _ _ _ _) rfl rfl p4 ?_; intro w5 p5 hg5))
  have hG5 : Hid (w2.grownBy w5 none) := Hid.mk' (grownBy_new (gt hg3 hg4) hg5 (fun k hk => by have h5 := Option.some.inj hk; have h6 := hg3.size; omega))
  have hGw : Hid (w.grownBy w5 none) := Hid.mk' (gt hG0.out hG5.out)
  have hq5 := Hid.mk' (K.out _ _ hq2.out hG5.out)
  clear hg3 hg4 hg5 p4 hq2 hG0
  generalize w3.heap.size = PB at *
  have y0 := p5.cell 0 (v := .int .i64 11) rfl
  have y1 := p5.cell 1 (v := .string ⟨#[]⟩) rfl
  have y2 := p5.cell 2 (v := .int .i64 0) rfl
  have y3 := p5.cell 3 (v := .int .i64 0) rfl
  have y4 := p5.cell 4 (v := .int .u32 0) rfl
  have y5 := p5.cell 5 (v := .int .i32 0) rfl
  go_wp2
  go_ret
  exact ⟨rfl, hGw.out⟩
set_option maxRecDepth 100000 in
set_option maxHeartbeats 2000000 in
theorem plain_won {P : World → Prop} (C : Con P) (u : Int) (hu : I32 u) (h1 : u = 8361) (hS : sE u = (0, [b8 92])) (ao : Option Addr) (len cap : Nat) (w : World) (hw : P w) : Calls Try.prog 8 #[.int .i32 u, .slice ao len cap] w fun e w' => e = .returned (.bool true) ∧ w.grownBy w' none := by
  have a0 := Hid.mk' (fun w hw => works_any C w hw)
  have K := Hid.mk' (fun (a b : World) (h : P a) (g : a.grownBy b none) => C.keep h g)
  have hq := Hid.mk' hw
  have a1 : Hid (∀ w, P w → Calls Try.prog 11 #[.int .i32 u] w fun e w' => e = .returned (pV 0 ⟨#[92]⟩) ∧ w.grownBy w' none) := C.put u hu _ _ hS
  have n92 : (u == 92) = false := by simp; omega
  have nwon : (u == 8361) = true := by simp; omega
  clear hw C hu hS h1
  go_enter Try.func8, Try.ntmps8
  go_upto_region 3 with (go_at_call 17; refine (a0.out _ hq.out).mono ?_; rintro e w2 ⟨rfl, hg1, hp1⟩; have hq2 := Hid.mk' hp1; have hG0 := Hid.mk' hg1)
  clear hg1 hp1 a0 hq
  go_upto_region 4 with (first
    | (go_at_call 11; refine (a1.out _ hq2.out).mono ?_; rintro e w3 ⟨rfl, hg3⟩)
    | (refine wpList_allocC _ rfl 32 rfl (pZ 0 ⟨#[]⟩) (zeroP _) ?_; intro w4 p4 hg4)
    | (refine wpList_storeC _ rfl 32 _ _ rfl _ (pZ 0 ⟨#[]⟩) (pZ 0 ⟨#[92]⟩) infoP rfl (pC_one _ _ _ _ _ _) rfl rfl p4 ?_; intro w5 p5 hg5))
  have hG5 : Hid (w2.grownBy w5 none) := Hid.mk' (grownBy_new (gt hg3 hg4) hg5 (fun k hk => by have h5 := Option.some.inj hk; have h6 := hg3.size; omega))
  have hGw : Hid (w.grownBy w5 none) := Hid.mk' (gt hG0.out hG5.out)
  have hq5 := Hid.mk' (K.out _ _ hq2.out hG5.out)
  clear hg3 hg4 hg5 p4 hq2 hG0
  generalize w3.heap.size = PB at *
  have y0 := p5.cell 0 (v := .int .i64 0) rfl
  have y1 := p5.cell 1 (v := .string ⟨#[92]⟩) rfl
  have y2 := p5.cell 2 (v := .int .i64 0) rfl
  have y3 := p5.cell 3 (v := .int .i64 0) rfl
  have y4 := p5.cell 4 (v := .int .u32 0) rfl
  have y5 := p5.cell 5 (v := .int .i32 0) rfl
  go_wp2
  go_ret
  exact ⟨rfl, hGw.out⟩
set_option maxRecDepth 100000 in
set_option maxHeartbeats 2000000 in
theorem plain_nonea {P : World → Prop} (C : Con P) (u : Int) (hu : I32 u) (h1 : u < 0) (hS : sE u = (11, [])) (ao : Option Addr) (len cap : Nat) (w : World) (hw : P w) : Calls Try.prog 8 #[.int .i32 u, .slice ao len cap] w fun e w' => e = .returned (.bool true) ∧ w.grownBy w' none := by
  have a0 := Hid.mk' (fun w hw => works_any C w hw)
  have K := Hid.mk' (fun (a b : World) (h : P a) (g : a.grownBy b none) => C.keep h g)
  have hq := Hid.mk' hw
  have a1 : Hid (∀ w, P w → Calls Try.prog 11 #[.int .i32 u] w fun e w' => e = .returned (pV 11 ⟨#[]⟩) ∧ w.grownBy w' none) := C.put u hu _ _ hS
  have n92 : (u == 92) = false := by simp; omega
  have nwon : (u == 8361) = false := by simp; omega
  have d0 : decide (0 ≤ u) = false := by simp; omega
  have d2 : decide (44032 ≤ u) = false := by simp; omega
  clear hw C hu hS h1
  go_enter Try.func8, Try.ntmps8
  go_upto_region 3 with (go_at_call 17; refine (a0.out _ hq.out).mono ?_; rintro e w2 ⟨rfl, hg1, hp1⟩; have hq2 := Hid.mk' hp1; have hG0 := Hid.mk' hg1)
  clear hg1 hp1 a0 hq
  go_upto_region 4 with (first
    | (go_at_call 11; refine (a1.out _ hq2.out).mono ?_; rintro e w3 ⟨rfl, hg3⟩)
    | (refine wpList_allocC _ rfl 32 rfl (pZ 0 ⟨#[]⟩) (zeroP _) ?_; intro w4 p4 hg4)
    | (refine wpList_storeC _ rfl 32 _ _ rfl _ (pZ 0 ⟨#[]⟩) (pZ 11 ⟨#[]⟩) infoP rfl (pC_one _ _ _ _ _ _) rfl rfl p4 ?_; intro w5 p5 hg5))
  have hG5 : Hid (w2.grownBy w5 none) := Hid.mk' (grownBy_new (gt hg3 hg4) hg5 (fun k hk => by have h5 := Option.some.inj hk; have h6 := hg3.size; omega))
  have hGw : Hid (w.grownBy w5 none) := Hid.mk' (gt hG0.out hG5.out)
  have hq5 := Hid.mk' (K.out _ _ hq2.out hG5.out)
  clear hg3 hg4 hg5 p4 hq2 hG0
  generalize w3.heap.size = PB at *
  have y0 := p5.cell 0 (v := .int .i64 11) rfl
  have y1 := p5.cell 1 (v := .string ⟨#[]⟩) rfl
  have y2 := p5.cell 2 (v := .int .i64 0) rfl
  have y3 := p5.cell 3 (v := .int .i64 0) rfl
  have y4 := p5.cell 4 (v := .int .u32 0) rfl
  have y5 := p5.cell 5 (v := .int .i32 0) rfl
  go_wp2
  go_ret
  exact ⟨rfl, hGw.out⟩
set_option maxRecDepth 100000 in
set_option maxHeartbeats 2000000 in
theorem plain_noneb {P : World → Prop} (C : Con P) (u : Int) (hu : I32 u) (h1 : 128 ≤ u) (h2 : u < 44032) (h3 : ¬ u = 8361) (hS : sE u = (11, [])) (ao : Option Addr) (len cap : Nat) (w : World) (hw : P w) : Calls Try.prog 8 #[.int .i32 u, .slice ao len cap] w fun e w' => e = .returned (.bool true) ∧ w.grownBy w' none := by
  have a0 := Hid.mk' (fun w hw => works_any C w hw)
  have K := Hid.mk' (fun (a b : World) (h : P a) (g : a.grownBy b none) => C.keep h g)
  have hq := Hid.mk' hw
  have a1 : Hid (∀ w, P w → Calls Try.prog 11 #[.int .i32 u] w fun e w' => e = .returned (pV 11 ⟨#[]⟩) ∧ w.grownBy w' none) := C.put u hu _ _ hS
  have n92 : (u == 92) = false := by simp; omega
  have nwon : (u == 8361) = false := by simp; omega
  have d0 : decide (0 ≤ u) = true := by simp; omega
  have d1 : decide (u < 128) = false := by simp; omega
  have d2 : decide (44032 ≤ u) = false := by simp; omega
  clear hw C hu hS h1 h2 h3
  go_enter Try.func8, Try.ntmps8
  go_upto_region 3 with (go_at_call 17; refine (a0.out _ hq.out).mono ?_; rintro e w2 ⟨rfl, hg1, hp1⟩; have hq2 := Hid.mk' hp1; have hG0 := Hid.mk' hg1)
  clear hg1 hp1 a0 hq
  go_upto_region 4 with (first
    | (go_at_call 11; refine (a1.out _ hq2.out).mono ?_; rintro e w3 ⟨rfl, hg3⟩)
    | (refine wpList_allocC _ rfl 32 rfl (pZ 0 ⟨#[]⟩) (zeroP _) ?_; intro w4 p4 hg4)
    | (refine wpList_storeC _ rfl 32 _ _ rfl _ (pZ 0 ⟨#[]⟩) (pZ 11 ⟨#[]⟩) infoP rfl (pC_one _ _ _ _ _ _) rfl rfl p4 ?_; intro w5 p5 hg5))
  have hG5 : Hid (w2.grownBy w5 none) := Hid.mk' (grownBy_new (gt hg3 hg4) hg5 (fun k hk => by have h5 := Option.some.inj hk; have h6 := hg3.size; omega))
  have hGw : Hid (w.grownBy w5 none) := Hid.mk' (gt hG0.out hG5.out)
  have hq5 := Hid.mk' (K.out _ _ hq2.out hG5.out)
  clear hg3 hg4 hg5 p4 hq2 hG0
  generalize w3.heap.size = PB at *
  have y0 := p5.cell 0 (v := .int .i64 11) rfl
  have y1 := p5.cell 1 (v := .string ⟨#[]⟩) rfl
  have y2 := p5.cell 2 (v := .int .i64 0) rfl
  have y3 := p5.cell 3 (v := .int .i64 0) rfl
  have y4 := p5.cell 4 (v := .int .u32 0) rfl
  have y5 := p5.cell 5 (v := .int .i32 0) rfl
  go_wp2
  go_ret
  exact ⟨rfl, hGw.out⟩
set_option maxRecDepth 100000 in
set_option maxHeartbeats 2000000 in
theorem plain_nonec {P : World → Prop} (C : Con P) (u : Int) (hu : I32 u) (h1 : 55203 < u) (hS : sE u = (11, [])) (ao : Option Addr) (len cap : Nat) (w : World) (hw : P w) : Calls Try.prog 8 #[.int .i32 u, .slice ao len cap] w fun e w' => e = .returned (.bool true) ∧ w.grownBy w' none := by
  have a0 := Hid.mk' (fun w hw => works_any C w hw)
  have K := Hid.mk' (fun (a b : World) (h : P a) (g : a.grownBy b none) => C.keep h g)
  have hq := Hid.mk' hw
  have a1 : Hid (∀ w, P w → Calls Try.prog 11 #[.int .i32 u] w fun e w' => e = .returned (pV 11 ⟨#[]⟩) ∧ w.grownBy w' none) := C.put u hu _ _ hS
  have n92 : (u == 92) = false := by simp; omega
  have nwon : (u == 8361) = false := by simp; omega
  have d0 : decide (0 ≤ u) = true := by simp; omega
  have d1 : decide (u < 128) = false := by simp; omega
  have d2 : decide (44032 ≤ u) = true := by simp; omega
  have d3 : decide (u ≤ 55203) = false := by simp; omega
  clear hw C hu hS h1
  go_enter Try.func8, Try.ntmps8
  go_upto_region 3 with (go_at_call 17; refine (a0.out _ hq.out).mono ?_; rintro e w2 ⟨rfl, hg1, hp1⟩; have hq2 := Hid.mk' hp1; have hG0 := Hid.mk' hg1)
  clear hg1 hp1 a0 hq
  go_upto_region 4 with (first
    | (go_at_call 11; refine (a1.out _ hq2.out).mono ?_; rintro e w3 ⟨rfl, hg3⟩)
    | (refine wpList_allocC _ rfl 32 rfl (pZ 0 ⟨#[]⟩) (zeroP _) ?_; intro w4 p4 hg4)
    | (refine wpList_storeC _ rfl 32 _ _ rfl _ (pZ 0 ⟨#[]⟩) (pZ 11 ⟨#[]⟩) infoP rfl (pC_one _ _ _ _ _ _) rfl rfl p4 ?_; intro w5 p5 hg5))
  have hG5 : Hid (w2.grownBy w5 none) := Hid.mk' (grownBy_new (gt hg3 hg4) hg5 (fun k hk => by have h5 := Option.some.inj hk; have h6 := hg3.size; omega))
  have hGw : Hid (w.grownBy w5 none) := Hid.mk' (gt hG0.out hG5.out)
  have hq5 := Hid.mk' (K.out _ _ hq2.out hG5.out)
  clear hg3 hg4 hg5 p4 hq2 hG0
  generalize w3.heap.size = PB at *
  have y0 := p5.cell 0 (v := .int .i64 11) rfl
  have y1 := p5.cell 1 (v := .string ⟨#[]⟩) rfl
  have y2 := p5.cell 2 (v := .int .i64 0) rfl
  have y3 := p5.cell 3 (v := .int .i64 0) rfl
  have y4 := p5.cell 4 (v := .int .u32 0) rfl
  have y5 := p5.cell 5 (v := .int .i32 0) rfl
  go_wp2
  go_ret
  exact ⟨rfl, hGw.out⟩
set_option maxRecDepth 100000 in
set_option maxHeartbeats 2000000 in
theorem plain_syl {P : World → Prop} (C : Con P) (u : Int) (hu : I32 u) (h1 : 44032 ≤ u) (h2 : u ≤ 55203) (x y : Nat) (hx : 128 ≤ x) (hx2 : x < 256) (hy2 : y < 256) (hS : sE u = (0, [b8 x, b8 y])) (ao : Option Addr) (len cap : Nat) (w : World) (hw : P w) : Calls Try.prog 8 #[.int .i32 u, .slice ao len cap] w fun e w' => e = .returned (.bool true) ∧ w.grownBy w' none := by
  have a0 := Hid.mk' (fun w hw => works_any C w hw)
  have K := Hid.mk' (fun (a b : World) (h : P a) (g : a.grownBy b none) => C.keep h g)
  have hq := Hid.mk' hw
  have a1 : Hid (∀ w, P w → Calls Try.prog 11 #[.int .i32 u] w fun e w' => e = .returned (pV 0 (str [b8 x, b8 y])) ∧ w.grownBy w' none) := C.put u hu _ _ hS
  have n92 : (u == 92) = false := by simp; omega
  have nwon : (u == 8361) = false := by simp; omega
  have d0 : decide (0 ≤ u) = true := by simp; omega
  have d1 : decide (u < 128) = false := by simp; omega
  have d2 : decide (44032 ≤ u) = true := by simp; omega
  have d3 : decide (u ≤ 55203) = true := by simp; omega
  have hsz : (str [b8 x, b8 y]).size = 2 := str_size _
  have j0 := index_of (L := [b8 x, b8 y]) (i := 0) (c := b8 x) rfl
  rw [b8_nat hx2] at j0
  simp only [Int.natCast_zero, Int.natCast_one, Int.cast_ofNat_Int, Int.ofNat_eq_natCast] at j0
  have hx3 : (128 : Int) ≤ (x : Int) := by omega
  generalize str [b8 x, b8 y] = s at *
  clear hw C hu hS h1 h2
  go_enter Try.func8, Try.ntmps8
  go_upto_region 3 with (go_at_call 17; refine (a0.out _ hq.out).mono ?_; rintro e w2 ⟨rfl, hg1, hp1⟩; have hq2 := Hid.mk' hp1; have hG0 := Hid.mk' hg1)
  clear hg1 hp1 a0 hq
  go_upto_region 4 with (first
    | (go_at_call 11; refine (a1.out _ hq2.out).mono ?_; rintro e w3 ⟨rfl, hg3⟩)
    | (refine wpList_allocC _ rfl 32 rfl (pZ 0 ⟨#[]⟩) (zeroP _) ?_; intro w4 p4 hg4)
    | (refine wpList_storeC _ rfl 32 _ _ rfl _ (pZ 0 ⟨#[]⟩) (pZ 0 s) infoP rfl (pC_one _ _ _ _ _ _) rfl rfl p4 ?_; intro w5 p5 hg5))
  have hG5 : Hid (w2.grownBy w5 none) := Hid.mk' (grownBy_new (gt hg3 hg4) hg5 (fun k hk => by have h5 := Option.some.inj hk; have h6 := hg3.size; omega))
  have hGw : Hid (w.grownBy w5 none) := Hid.mk' (gt hG0.out hG5.out)
  have hq5 := Hid.mk' (K.out _ _ hq2.out hG5.out)
  clear hg3 hg4 hg5 p4 hq2 hG0
  generalize w3.heap.size = PB at *
  have y0 := p5.cell 0 (v := .int .i64 0) rfl
  have y1 := p5.cell 1 (v := .string s) rfl
  have y2 := p5.cell 2 (v := .int .i64 0) rfl
  have y3 := p5.cell 3 (v := .int .i64 0) rfl
  have y4 := p5.cell 4 (v := .int .u32 0) rfl
  have y5 := p5.cell 5 (v := .int .i32 0) rfl
  go_wp2
  go_ret
  exact ⟨rfl, hGw.out⟩
set_option maxRecDepth 100000 in
set_option maxHeartbeats 2000000 in
theorem plain_low {P : World → Prop} (C : Con P) (n : Nat) (hn : n < 128) (h92 : ¬ n = 92) (ao : Option Addr) (cap : Nat) (L : List UInt8) (w : World) (hw : P w) (hB : Bytes w ao L) (hLc : L.length ≤ cap) (hcm : cap ≤ 140737488351232) : Calls Try.prog 8 #[.int .i32 (n : Int), .slice ao L.length cap] w fun e w' => e = .returned (.bool true) ∧ w.grownBy w' none := by
  have a0 := Hid.mk' (fun w hw => works_any C w hw)
  have K := Hid.mk' (fun (a b : World) (h : P a) (g : a.grownBy b none) => C.keep h g)
  have hq := Hid.mk' hw
  have hse : sE (n : Int) = (0, [b8 n]) := by
    unfold sE
    rw [if_neg (by omega), if_pos (by omega), Int.toNat_natCast]
  have a1 := C.put (n : Int) (by unfold I32; omega) _ _ hse
  have hge : gE (b8 n :: L) = (0, 1, 1, (n : Int)) := by
    have := back_plain hse L
    simpa using this
  have a2 := C.got (b8 n :: L) _ _ _ _ hge
  have h8 : n < 256 := by omega
  have hn1 : (n : Int) < 128 := by omega
  have hn2 : (n : Int) < 256 := by omega
  have hn0 : (0 : Int) ≤ (n : Int) := by omega
  have n92 : ((n : Int) == 92) = false := by simp; omega
  have nwon : ((n : Int) == 8361) = false := by simp; omega
  have hnn : ((n : Int) == (n : Int)) = true := by simp
  obtain ⟨i0, hi, hz0, hz1, hz2⟩ := info_parts info5
  have HB : Hid (Bytes w ao L) := Hid.mk' hB
  have hLl : L.length ≤ 140737488351232 := by omega
  have hcv := Hid.mk' (fun w => conv_one h8 w)
  have how := Hid.mk' (fun w => own_one h8 w)
  have hlen : (b8 n :: L).length = L.length + 1 := by simp
  have ha2 : Hid (∀ ao cap w, Bytes w ao (b8 n :: L) → L.length + 1 ≤ cap → cap ≤ 9223372036854775807 → P w → Calls Try.prog 9 #[.slice ao (L.length + 1) cap] w fun e w' => e = .returned (gV 0 1 1 (n : Int)) ∧ w.grownBy w' none) := Hid.mk' (fun ao cap w hB h1 h2 hw => a2.out _ hlen ao cap w hB h1 h2 hw)
  obtain ⟨M, hM⟩ : ∃ M, Hid (b8 n :: L = M) := ⟨_, Hid.mk' rfl⟩
  have hMl : M.length = L.length + 1 := by rw [← hM.out]; exact hlen
  rw [hM.out] at ha2
  generalize str [b8 n] = s at *
  clear hw C hse hge a2 hB hlen h92
  go_enter Try.func8, Try.ntmps8
  go_upto_region 3 with (go_at_call 17; refine (a0.out _ hq.out).mono ?_; rintro e w2 ⟨rfl, hg1, hp1⟩; have hq2 := Hid.mk' hp1; have hG0 := Hid.mk' hg1)
  clear hg1 hp1 a0 hq
  go_upto_region 4 with (first
    | (go_at_call 11; refine (a1.out _ hq2.out).mono ?_; rintro e w3 ⟨rfl, hg3⟩)
    | (refine wpList_allocC _ rfl 32 rfl (pZ 0 ⟨#[]⟩) (zeroP _) ?_; intro w4 p4 hg4)
    | (refine wpList_storeC _ rfl 32 _ _ rfl _ (pZ 0 ⟨#[]⟩) (pZ 0 s) infoP rfl (pC_one _ _ _ _ _ _) rfl rfl p4 ?_; intro w5 p5 hg5))
  have hG5 : Hid (w2.grownBy w5 none) := Hid.mk' (grownBy_new (gt hg3 hg4) hg5 (fun k hk => by have h5 := Option.some.inj hk; have h6 := hg3.size; omega))
  have hGw : Hid (w.grownBy w5 none) := Hid.mk' (gt hG0.out hG5.out)
  have hq5 := Hid.mk' (K.out _ _ hq2.out hG5.out)
  clear hg3 hg4 hg5 p4 hq2 hG0
  generalize w3.heap.size = PB at *
  have y0 := p5.cell 0 (v := .int .i64 0) rfl
  have y1 := p5.cell 1 (v := .string s) rfl
  have y2 := p5.cell 2 (v := .int .i64 0) rfl
  have y3 := p5.cell 3 (v := .int .i64 0) rfl
  have y4 := p5.cell 4 (v := .int .u32 0) rfl
  have y5 := p5.cell 5 (v := .int .i32 0) rfl
  have HB5 : Hid (Bytes w5 ao L) := Hid.mk' (HB.out.kept0 hGw.out)
  have hcv5 := hcv.out w5
  have hown5 : Hid (Own ((w5.alloc (.cells #[.int .u8 (n : Int)] 5)).alloc (.cells #[.int .u8 (n : Int)] 5)) (some ⟨w5.heap.size + 1, 0, none⟩) 1 [b8 n]) := Hid.mk' (by have := how.out (w5.alloc (.cells #[.int .u8 (n : Int)] 5)); simpa using this)
  clear y0 y1 y2 y3 y4 y5
  go_wp2_with (first
    | (refine wpList_loadC _ rfl 32 _ rfl _ Try.underlying32 rfl PB (pZ 0 s) infoP rfl p5 ?_)
    | (at_builtin; refine want_append _ (by rfl) _ _ 22 22 rfl i0 Try.underlying22 hi hz0 hz1 hz2 _ _ [b8 n] rfl hown5.out _ rfl L (src_of ((HB5.out.alloc _).alloc _) 22 cap Try.underlying22) (by simp; omega) M (by rw [← hM.out]; rfl) ?_; intro ao' c' wa hown hga hat; rw [hMl]; have q1 := hown.cap_le; have q2 := hown.cap_max; rw [hMl] at q1; have hgA : Hid (w5.grownBy wa none) := Hid.mk' (grownBy_new (ga (ga (grownBy_refl _ _))) hga (by intro g e; simp [blk] at e; omega)))
    | (go_at_call 9; refine (ha2.out ao' c' _ hown.bytes q1 q2 (K.out _ _ hq5.out hgA.out)).mono ?_; rintro e wb ⟨rfl, hgb⟩))
  go_ret
  exact ⟨rfl, gt hGw.out (gt hgA.out hgb)⟩
theorem plain_walk {P : World → Prop} (C : Con P) (u : Int) (hu : I32 u) (ao : Option Addr) (cap : Nat) (L : List UInt8) (w : World) (hw : P w) (hB : Bytes w ao L) (hLc : L.length ≤ cap) (hcm : cap ≤ 140737488351232) : Calls Try.prog 8 #[.int .i32 u, .slice ao L.length cap] w fun e w' => e = .returned (.bool true) ∧ w.grownBy w' none := by
  by_cases h1 : u = 92
  · exact plain_92 C u hu h1 (by unfold sE; rw [if_neg (by omega), if_neg (by omega), if_neg (by unfold C16.InS; omega)]) ao _ cap w hw
  · by_cases h2 : u = 8361
    · exact plain_won C u hu h2 (by unfold sE; rw [if_pos h2]) ao _ cap w hw
    · by_cases h3 : 0 ≤ u ∧ u < 128
      · obtain ⟨n, rfl⟩ : ∃ n : Nat, u = (n : Int) := ⟨u.toNat, by omega⟩
        exact plain_low C n (by omega) (by omega) ao cap L w hw hB hLc hcm
      · by_cases h4 : 44032 ≤ u ∧ u ≤ 55203
        · obtain ⟨n, hn⟩ : ∃ n : Nat, u = (n : Int) + 44032 := ⟨(u - 44032).toNat, by omega⟩
          have hS := sE_syl (n := n) (by omega)
          rw [← hn] at hS
          have k1 := (cdN_is (n := n) (by omega)).1
          have k2 := (cdN_is (n := n) (by omega)).2.1
          exact plain_syl C u hu h4.1 h4.2 _ _ (by omega) (by omega) (by omega) hS ao _ cap w hw
        · have hS : sE u = (11, []) := by
            unfold sE
            rw [if_neg h2, if_neg (by omega), if_neg (by unfold C16.InS; omega)]
          by_cases h5 : u < 0
          · exact plain_nonea C u hu h5 hS ao _ cap w hw
          · by_cases h6 : u < 44032
            · exact plain_noneb C u hu (by omega) h6 h2 hS ao _ cap w hw
            · exact plain_nonec C u hu (by omega) hS ao _ cap w hw
end Go.Proofs.Ytdphkpjamclhjaa.C19
