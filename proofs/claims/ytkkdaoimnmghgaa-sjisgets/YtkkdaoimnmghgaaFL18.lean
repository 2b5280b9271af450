/- SjisPlain: the walk. -/
import Derived.Test.YtkkdaoimnmghgaaFX18
import Derived.Test.YtkkdaoimnmghgaaCw
import Derived.Test.YtkkdaoimnmghgaaConvApp
import Derived.Test.YtkkdaoimnmghgaaRegion
import Derived.Deep.RegionHeld3
import Derived.BigQuiet
namespace Go.Proofs.Ytkkdaoimnmghgaa.C18
open Go.ChangeShapes Go.WideShapes Go.ChangeAt Go.RowKit Go.Proofs.Ytkkdaoimnmghgaa.Mem Go.Proofs.Ytkkdaoimnmghgaa.Cb Go.Proofs.Ytkkdaoimnmghgaa.Sp
set_option linter.unusedVariables false
set_option linter.unusedSimpArgs false

set_option maxRecDepth 100000 in
set_option maxHeartbeats 2000000 in
theorem plain_92 {P : World → Prop} (C : Con P) (b : Nat) (hb : b < 256) (ao : Option Addr) (cap : Nat) (L : List UInt8) (h1 : b = 92) (hG : gE (b8 b :: L) = (0, 1, 1, 165)) (w : World) (hw : P w) (hB : Bytes w ao L) (hLc : L.length ≤ cap) (hcm : cap ≤ 140737488351232) : Calls Try.prog 8 #[.int .u8 (b : Int), .slice ao L.length cap] w fun e w' => e = .returned (.bool true) ∧ w.grownBy w' none := by
  have a0 := Hid.mk' (fun w hw => works_any C w hw)
  have Kp := Hid.mk' (fun (a b : World) (h : P a) (g : a.grownBy b none) => C.keep h g)
  have hq := Hid.mk' hw
  have hlen : (b8 b :: L).length = L.length + 1 := by simp
  have a1 : Hid (∀ ao cap w, Bytes w ao (b8 b :: L) → L.length + 1 ≤ cap → cap ≤ 9223372036854775807 → P w → Calls Try.prog 9 #[.slice ao (L.length + 1) cap] w fun e w' => e = .returned (gV 0 1 1 165) ∧ w.grownBy w' none) := Hid.mk' (fun ao cap w h1 h2 h3 h4 => (C.got (b8 b :: L) _ _ _ _ hG).out _ hlen ao cap w h1 h2 h3 h4)
  obtain ⟨i0, hi, hz0, hz1, hz2⟩ := info_parts info5
  have HB : Hid (Bytes w ao L) := Hid.mk' hB
  have hLl : L.length ≤ 140737488351232 := by omega
  have how := Hid.mk' (fun w => own_one hb w)
  obtain ⟨M, hM⟩ : ∃ M, Hid (b8 b :: L = M) := ⟨_, Hid.mk' rfl⟩
  have hMl : M.length = L.length + 1 := by rw [← hM.out]; exact hlen
  rw [hM.out] at a1
  have hb' : (b : Int) < 256 := by omega
  have n92 : ((b : Int) == 92) = true := by simp; omega
  clear hw C hG hB hlen h1
  go_enter Try.func8, Try.ntmps8
  go_upto_region 3 with (go_at_call 17; refine (a0.out _ hq.out).mono ?_; rintro e w1 ⟨rfl, hg1, hp1⟩; have hq1 := Hid.mk' hp1; have hG1 := Hid.mk' hg1)
  have HB1 := Hid.mk' (HB.out.kept0 hG1.out)
  clear hg1 hp1 a0 hq HB
  go_upto_region 4 with (first
    | (at_builtin; refine wpList_append_any _ rfl _ _ 22 22 rfl i0 Try.underlying22 hi hz0 hz1 hz2 _ _ [b8 b] rfl (how.out w1) _ rfl L (src_of (HB1.out.alloc _) 22 cap Try.underlying22) (by simp; omega) M (by rw [← hM.out]; rfl) ?_; intro ao' c' wa hown hga hat; rw [hMl]; have q1 := hown.cap_le; have q2 := hown.cap_max; rw [hMl] at q1; have hgA : Hid (w1.grownBy wa none) := Hid.mk' (grownBy_new (ga (grownBy_refl _ _)) hga (by intro g e; simp [blk] at e; omega)))
    | (go_at_call 9; refine (a1.out ao' c' _ hown.bytes q1 q2 (Kp.out _ _ hq1.out hgA.out)).mono ?_; rintro e w3 ⟨rfl, hg3⟩)
    | (refine wpList_allocC _ rfl 28 rfl (gZ 0 0 0 0) (zeroG _) ?_; intro w4 g4 hg4)
    | (refine wpList_storeC _ rfl 28 _ _ rfl _ (gZ 0 0 0 0) (gZ 0 1 1 165) infoG rfl (gC_one _ _ _ _ _ _ _ _ _) rfl rfl g4 ?_; intro w5 g5 hg5))
  have hG5 : Hid (wa.grownBy w5 none) := Hid.mk' (grownBy_new (gt hg3 hg4) hg5 (fun k hk => by have h5 := Option.some.inj hk; have h6 := hg3.size; omega))
  have hGw : Hid (w.grownBy w5 none) := Hid.mk' (gt hG1.out (gt hgA.out hG5.out))
  have hq5 := Hid.mk' (Kp.out _ _ hq1.out (gt hgA.out hG5.out))
  clear hown hga hat q1 q2 hgA hg3 hg4 hg5 g4 a1 HB1 hG1 hq1 hG5 hM hMl how
  generalize w3.heap.size = GB at *
  have y0 := g5.cell 0 (v := .int .i64 0) rfl
  have y1 := g5.cell 1 (v := .int .i64 1) rfl
  have y2 := g5.cell 2 (v := .int .i64 1) rfl
  have y3 := g5.cell 3 (v := .int .i32 165) rfl
  have y4 := g5.cell 4 (v := .int .i32 0) rfl
  have y5 := g5.cell 5 (v := .int .i64 0) rfl
  have y6 := g5.cell 6 (v := .int .i64 0) rfl
  have y7 := g5.cell 7 (v := .int .u32 0) rfl
  have y8 := g5.cell 8 (v := .int .i32 0) rfl
  go_wp2
  go_ret
  exact ⟨rfl, hGw.out⟩
set_option maxRecDepth 100000 in
set_option maxHeartbeats 2000000 in
theorem plain_126 {P : World → Prop} (C : Con P) (b : Nat) (hb : b < 256) (ao : Option Addr) (cap : Nat) (L : List UInt8) (h1 : b = 126) (hG : gE (b8 b :: L) = (0, 1, 1, 8254)) (w : World) (hw : P w) (hB : Bytes w ao L) (hLc : L.length ≤ cap) (hcm : cap ≤ 140737488351232) : Calls Try.prog 8 #[.int .u8 (b : Int), .slice ao L.length cap] w fun e w' => e = .returned (.bool true) ∧ w.grownBy w' none := by
  have a0 := Hid.mk' (fun w hw => works_any C w hw)
  have Kp := Hid.mk' (fun (a b : World) (h : P a) (g : a.grownBy b none) => C.keep h g)
  have hq := Hid.mk' hw
  have hlen : (b8 b :: L).length = L.length + 1 := by simp
  have a1 : Hid (∀ ao cap w, Bytes w ao (b8 b :: L) → L.length + 1 ≤ cap → cap ≤ 9223372036854775807 → P w → Calls Try.prog 9 #[.slice ao (L.length + 1) cap] w fun e w' => e = .returned (gV 0 1 1 8254) ∧ w.grownBy w' none) := Hid.mk' (fun ao cap w h1 h2 h3 h4 => (C.got (b8 b :: L) _ _ _ _ hG).out _ hlen ao cap w h1 h2 h3 h4)
  obtain ⟨i0, hi, hz0, hz1, hz2⟩ := info_parts info5
  have HB : Hid (Bytes w ao L) := Hid.mk' hB
  have hLl : L.length ≤ 140737488351232 := by omega
  have how := Hid.mk' (fun w => own_one hb w)
  obtain ⟨M, hM⟩ : ∃ M, Hid (b8 b :: L = M) := ⟨_, Hid.mk' rfl⟩
  have hMl : M.length = L.length + 1 := by rw [← hM.out]; exact hlen
  rw [hM.out] at a1
  have hb' : (b : Int) < 256 := by omega
  have n92 : ((b : Int) == 92) = false := by simp; omega
  have n126 : ((b : Int) == 126) = true := by simp; omega
  clear hw C hG hB hlen h1
  go_enter Try.func8, Try.ntmps8
  go_upto_region 3 with (go_at_call 17; refine (a0.out _ hq.out).mono ?_; rintro e w1 ⟨rfl, hg1, hp1⟩; have hq1 := Hid.mk' hp1; have hG1 := Hid.mk' hg1)
  have HB1 := Hid.mk' (HB.out.kept0 hG1.out)
  clear hg1 hp1 a0 hq HB
  go_upto_region 4 with (first
    | (at_builtin; refine wpList_append_any _ rfl _ _ 22 22 rfl i0 Try.underlying22 hi hz0 hz1 hz2 _ _ [b8 b] rfl (how.out w1) _ rfl L (src_of (HB1.out.alloc _) 22 cap Try.underlying22) (by simp; omega) M (by rw [← hM.out]; rfl) ?_; intro ao' c' wa hown hga hat; rw [hMl]; have q1 := hown.cap_le; have q2 := hown.cap_max; rw [hMl] at q1; have hgA : Hid (w1.grownBy wa none) := Hid.mk' (grownBy_new (ga (grownBy_refl _ _)) hga (by intro g e; simp [blk] at e; omega)))
    | (go_at_call 9; refine (a1.out ao' c' _ hown.bytes q1 q2 (Kp.out _ _ hq1.out hgA.out)).mono ?_; rintro e w3 ⟨rfl, hg3⟩)
    | (refine wpList_allocC _ rfl 28 rfl (gZ 0 0 0 0) (zeroG _) ?_; intro w4 g4 hg4)
    | (refine wpList_storeC _ rfl 28 _ _ rfl _ (gZ 0 0 0 0) (gZ 0 1 1 8254) infoG rfl (gC_one _ _ _ _ _ _ _ _ _) rfl rfl g4 ?_; intro w5 g5 hg5))
  have hG5 : Hid (wa.grownBy w5 none) := Hid.mk' (grownBy_new (gt hg3 hg4) hg5 (fun k hk => by have h5 := Option.some.inj hk; have h6 := hg3.size; omega))
  have hGw : Hid (w.grownBy w5 none) := Hid.mk' (gt hG1.out (gt hgA.out hG5.out))
  have hq5 := Hid.mk' (Kp.out _ _ hq1.out (gt hgA.out hG5.out))
  clear hown hga hat q1 q2 hgA hg3 hg4 hg5 g4 a1 HB1 hG1 hq1 hG5 hM hMl how
  generalize w3.heap.size = GB at *
  have y0 := g5.cell 0 (v := .int .i64 0) rfl
  have y1 := g5.cell 1 (v := .int .i64 1) rfl
  have y2 := g5.cell 2 (v := .int .i64 1) rfl
  have y3 := g5.cell 3 (v := .int .i32 8254) rfl
  have y4 := g5.cell 4 (v := .int .i32 0) rfl
  have y5 := g5.cell 5 (v := .int .i64 0) rfl
  have y6 := g5.cell 6 (v := .int .i64 0) rfl
  have y7 := g5.cell 7 (v := .int .u32 0) rfl
  have y8 := g5.cell 8 (v := .int .i32 0) rfl
  go_wp2
  go_ret
  exact ⟨rfl, hGw.out⟩
set_option maxRecDepth 100000 in
set_option maxHeartbeats 2000000 in
theorem plain_kana {P : World → Prop} (C : Con P) (b : Nat) (hb : b < 256) (ao : Option Addr) (cap : Nat) (L : List UInt8) (h1 : 161 ≤ b) (h2 : b ≤ 223) (j : Nat) (hj : b - 161 = j) (n : Nat) (hn : 65377 + j = n) (hG : gE (b8 b :: L) = (0, 1, 1, (n : Int))) (w : World) (hw : P w) (hB : Bytes w ao L) (hLc : L.length ≤ cap) (hcm : cap ≤ 140737488351232) : Calls Try.prog 8 #[.int .u8 (b : Int), .slice ao L.length cap] w fun e w' => e = .returned (.bool true) ∧ w.grownBy w' none := by
  have a0 := Hid.mk' (fun w hw => works_any C w hw)
  have Kp := Hid.mk' (fun (a b : World) (h : P a) (g : a.grownBy b none) => C.keep h g)
  have hq := Hid.mk' hw
  have hlen : (b8 b :: L).length = L.length + 1 := by simp
  have a1 : Hid (∀ ao cap w, Bytes w ao (b8 b :: L) → L.length + 1 ≤ cap → cap ≤ 9223372036854775807 → P w → Calls Try.prog 9 #[.slice ao (L.length + 1) cap] w fun e w' => e = .returned (gV 0 1 1 (n : Int)) ∧ w.grownBy w' none) := Hid.mk' (fun ao cap w h1 h2 h3 h4 => (C.got (b8 b :: L) _ _ _ _ hG).out _ hlen ao cap w h1 h2 h3 h4)
  obtain ⟨i0, hi, hz0, hz1, hz2⟩ := info_parts info5
  have HB : Hid (Bytes w ao L) := Hid.mk' hB
  have hLl : L.length ≤ 140737488351232 := by omega
  have how := Hid.mk' (fun w => own_one hb w)
  obtain ⟨M, hM⟩ : ∃ M, Hid (b8 b :: L = M) := ⟨_, Hid.mk' rfl⟩
  have hMl : M.length = L.length + 1 := by rw [← hM.out]; exact hlen
  rw [hM.out] at a1
  have hb' : (b : Int) < 256 := by omega
  have n92 : ((b : Int) == 92) = false := by simp; omega
  have n126 : ((b : Int) == 126) = false := by simp; omega
  have d128 : ¬ (b : Int) < 128 := by omega
  have k1 : decide (161 ≤ (b : Int)) = true := by simp; omega
  have k2 : decide ((b : Int) ≤ 223) = true := by simp; omega
  have k3 : (b : Int) - 161 = (j : Int) := by omega
  have k4 : 65377 + (j : Int) = (n : Int) := by omega
  have k5 : (j : Int) ≤ 62 := by omega
  have k6 : IntKind.u8.wrap (j : Int) = (j : Int) := by rw [IntKind.wrap_u8]; omega
  have k7 : IntKind.i32.wrap (j : Int) = (j : Int) := by rw [IntKind.wrap_i32]; omega
  have k8 : IntKind.i32.wrap (n : Int) = (n : Int) := by rw [IntKind.wrap_i32]; omega
  have knn : ((n : Int) == (n : Int)) = true := by simp
  clear hw C hG hB hlen h1 h2 hj hn
  go_enter Try.func8, Try.ntmps8
  go_upto_region 3 with (go_at_call 17; refine (a0.out _ hq.out).mono ?_; rintro e w1 ⟨rfl, hg1, hp1⟩; have hq1 := Hid.mk' hp1; have hG1 := Hid.mk' hg1)
  have HB1 := Hid.mk' (HB.out.kept0 hG1.out)
  clear hg1 hp1 a0 hq HB
  go_upto_region 4 with (first
    | (at_builtin; refine wpList_append_any _ rfl _ _ 22 22 rfl i0 Try.underlying22 hi hz0 hz1 hz2 _ _ [b8 b] rfl (how.out w1) _ rfl L (src_of (HB1.out.alloc _) 22 cap Try.underlying22) (by simp; omega) M (by rw [← hM.out]; rfl) ?_; intro ao' c' wa hown hga hat; rw [hMl]; have q1 := hown.cap_le; have q2 := hown.cap_max; rw [hMl] at q1; have hgA : Hid (w1.grownBy wa none) := Hid.mk' (grownBy_new (ga (grownBy_refl _ _)) hga (by intro g e; simp [blk] at e; omega)))
    | (go_at_call 9; refine (a1.out ao' c' _ hown.bytes q1 q2 (Kp.out _ _ hq1.out hgA.out)).mono ?_; rintro e w3 ⟨rfl, hg3⟩)
    | (refine wpList_allocC _ rfl 28 rfl (gZ 0 0 0 0) (zeroG _) ?_; intro w4 g4 hg4)
    | (refine wpList_storeC _ rfl 28 _ _ rfl _ (gZ 0 0 0 0) (gZ 0 1 1 (n : Int)) infoG rfl (gC_one _ _ _ _ _ _ _ _ _) rfl rfl g4 ?_; intro w5 g5 hg5))
  have hG5 : Hid (wa.grownBy w5 none) := Hid.mk' (grownBy_new (gt hg3 hg4) hg5 (fun k hk => by have h5 := Option.some.inj hk; have h6 := hg3.size; omega))
  have hGw : Hid (w.grownBy w5 none) := Hid.mk' (gt hG1.out (gt hgA.out hG5.out))
  have hq5 := Hid.mk' (Kp.out _ _ hq1.out (gt hgA.out hG5.out))
  clear hown hga hat q1 q2 hgA hg3 hg4 hg5 g4 a1 HB1 hG1 hq1 hG5 hM hMl how
  generalize w3.heap.size = GB at *
  have y0 := g5.cell 0 (v := .int .i64 0) rfl
  have y1 := g5.cell 1 (v := .int .i64 1) rfl
  have y2 := g5.cell 2 (v := .int .i64 1) rfl
  have y3 := g5.cell 3 (v := .int .i32 (n : Int)) rfl
  have y4 := g5.cell 4 (v := .int .i32 0) rfl
  have y5 := g5.cell 5 (v := .int .i64 0) rfl
  have y6 := g5.cell 6 (v := .int .i64 0) rfl
  have y7 := g5.cell 7 (v := .int .u32 0) rfl
  have y8 := g5.cell 8 (v := .int .i32 0) rfl
  go_wp2
  go_ret
  exact ⟨rfl, hGw.out⟩
set_option maxRecDepth 100000 in
set_option maxHeartbeats 2000000 in
theorem plain_erra {P : World → Prop} (C : Con P) (b : Nat) (hb : b < 256) (ao : Option Addr) (cap : Nat) (L : List UInt8) (h1 : 128 ≤ b) (h2 : b < 161) (z m : Int) (hz : (z != 0) = true) (hG : gE (b8 b :: L) = (z, m, 0, 0)) (w : World) (hw : P w) (hB : Bytes w ao L) (hLc : L.length ≤ cap) (hcm : cap ≤ 140737488351232) : Calls Try.prog 8 #[.int .u8 (b : Int), .slice ao L.length cap] w fun e w' => e = .returned (.bool true) ∧ w.grownBy w' none := by
  have a0 := Hid.mk' (fun w hw => works_any C w hw)
  have Kp := Hid.mk' (fun (a b : World) (h : P a) (g : a.grownBy b none) => C.keep h g)
  have hq := Hid.mk' hw
  have hlen : (b8 b :: L).length = L.length + 1 := by simp
  have a1 : Hid (∀ ao cap w, Bytes w ao (b8 b :: L) → L.length + 1 ≤ cap → cap ≤ 9223372036854775807 → P w → Calls Try.prog 9 #[.slice ao (L.length + 1) cap] w fun e w' => e = .returned (gV z m 0 0) ∧ w.grownBy w' none) := Hid.mk' (fun ao cap w h1 h2 h3 h4 => (C.got (b8 b :: L) _ _ _ _ hG).out _ hlen ao cap w h1 h2 h3 h4)
  obtain ⟨i0, hi, hz0, hz1, hz2⟩ := info_parts info5
  have HB : Hid (Bytes w ao L) := Hid.mk' hB
  have hLl : L.length ≤ 140737488351232 := by omega
  have how := Hid.mk' (fun w => own_one hb w)
  obtain ⟨M, hM⟩ : ∃ M, Hid (b8 b :: L = M) := ⟨_, Hid.mk' rfl⟩
  have hMl : M.length = L.length + 1 := by rw [← hM.out]; exact hlen
  rw [hM.out] at a1
  have hb' : (b : Int) < 256 := by omega
  have n92 : ((b : Int) == 92) = false := by simp; omega
  have n126 : ((b : Int) == 126) = false := by simp; omega
  have d128 : ¬ (b : Int) < 128 := by omega
  have k1 : decide (161 ≤ (b : Int)) = false := by simp; omega
  clear hw C hG hB hlen h1 h2
  go_enter Try.func8, Try.ntmps8
  go_upto_region 3 with (go_at_call 17; refine (a0.out _ hq.out).mono ?_; rintro e w1 ⟨rfl, hg1, hp1⟩; have hq1 := Hid.mk' hp1; have hG1 := Hid.mk' hg1)
  have HB1 := Hid.mk' (HB.out.kept0 hG1.out)
  clear hg1 hp1 a0 hq HB
  go_upto_region 4 with (first
    | (at_builtin; refine wpList_append_any _ rfl _ _ 22 22 rfl i0 Try.underlying22 hi hz0 hz1 hz2 _ _ [b8 b] rfl (how.out w1) _ rfl L (src_of (HB1.out.alloc _) 22 cap Try.underlying22) (by simp; omega) M (by rw [← hM.out]; rfl) ?_; intro ao' c' wa hown hga hat; rw [hMl]; have q1 := hown.cap_le; have q2 := hown.cap_max; rw [hMl] at q1; have hgA : Hid (w1.grownBy wa none) := Hid.mk' (grownBy_new (ga (grownBy_refl _ _)) hga (by intro g e; simp [blk] at e; omega)))
    | (go_at_call 9; refine (a1.out ao' c' _ hown.bytes q1 q2 (Kp.out _ _ hq1.out hgA.out)).mono ?_; rintro e w3 ⟨rfl, hg3⟩)
    | (refine wpList_allocC _ rfl 28 rfl (gZ 0 0 0 0) (zeroG _) ?_; intro w4 g4 hg4)
    | (refine wpList_storeC _ rfl 28 _ _ rfl _ (gZ 0 0 0 0) (gZ z m 0 0) infoG rfl (gC_one _ _ _ _ _ _ _ _ _) rfl rfl g4 ?_; intro w5 g5 hg5))
  have hG5 : Hid (wa.grownBy w5 none) := Hid.mk' (grownBy_new (gt hg3 hg4) hg5 (fun k hk => by have h5 := Option.some.inj hk; have h6 := hg3.size; omega))
  have hGw : Hid (w.grownBy w5 none) := Hid.mk' (gt hG1.out (gt hgA.out hG5.out))
  have hq5 := Hid.mk' (Kp.out _ _ hq1.out (gt hgA.out hG5.out))
  clear hown hga hat q1 q2 hgA hg3 hg4 hg5 g4 a1 HB1 hG1 hq1 hG5 hM hMl how
  generalize w3.heap.size = GB at *
  have y0 := g5.cell 0 (v := .int .i64 z) rfl
  have y1 := g5.cell 1 (v := .int .i64 m) rfl
  have y2 := g5.cell 2 (v := .int .i64 0) rfl
  have y3 := g5.cell 3 (v := .int .i32 0) rfl
  have y4 := g5.cell 4 (v := .int .i32 0) rfl
  have y5 := g5.cell 5 (v := .int .i64 0) rfl
  have y6 := g5.cell 6 (v := .int .i64 0) rfl
  have y7 := g5.cell 7 (v := .int .u32 0) rfl
  have y8 := g5.cell 8 (v := .int .i32 0) rfl
  go_wp2
  go_ret
  exact ⟨rfl, hGw.out⟩
set_option maxRecDepth 100000 in
set_option maxHeartbeats 2000000 in
theorem plain_twoa {P : World → Prop} (C : Con P) (b : Nat) (hb : b < 256) (ao : Option Addr) (cap : Nat) (L : List UInt8) (h1 : 128 ≤ b) (h2 : b < 161) (n : Nat) (hG : gE (b8 b :: L) = (0, 2, 1, (n : Int))) (w : World) (hw : P w) (hB : Bytes w ao L) (hLc : L.length ≤ cap) (hcm : cap ≤ 140737488351232) : Calls Try.prog 8 #[.int .u8 (b : Int), .slice ao L.length cap] w fun e w' => e = .returned (.bool true) ∧ w.grownBy w' none := by
  have a0 := Hid.mk' (fun w hw => works_any C w hw)
  have Kp := Hid.mk' (fun (a b : World) (h : P a) (g : a.grownBy b none) => C.keep h g)
  have hq := Hid.mk' hw
  have hlen : (b8 b :: L).length = L.length + 1 := by simp
  have a1 : Hid (∀ ao cap w, Bytes w ao (b8 b :: L) → L.length + 1 ≤ cap → cap ≤ 9223372036854775807 → P w → Calls Try.prog 9 #[.slice ao (L.length + 1) cap] w fun e w' => e = .returned (gV 0 2 1 (n : Int)) ∧ w.grownBy w' none) := Hid.mk' (fun ao cap w h1 h2 h3 h4 => (C.got (b8 b :: L) _ _ _ _ hG).out _ hlen ao cap w h1 h2 h3 h4)
  obtain ⟨i0, hi, hz0, hz1, hz2⟩ := info_parts info5
  have HB : Hid (Bytes w ao L) := Hid.mk' hB
  have hLl : L.length ≤ 140737488351232 := by omega
  have how := Hid.mk' (fun w => own_one hb w)
  obtain ⟨M, hM⟩ : ∃ M, Hid (b8 b :: L = M) := ⟨_, Hid.mk' rfl⟩
  have hMl : M.length = L.length + 1 := by rw [← hM.out]; exact hlen
  rw [hM.out] at a1
  have hb' : (b : Int) < 256 := by omega
  have n92 : ((b : Int) == 92) = false := by simp; omega
  have n126 : ((b : Int) == 126) = false := by simp; omega
  have d128 : ¬ (b : Int) < 128 := by omega
  have k1 : decide (161 ≤ (b : Int)) = false := by simp; omega
  clear hw C hG hB hlen h1 h2
  go_enter Try.func8, Try.ntmps8
  go_upto_region 3 with (go_at_call 17; refine (a0.out _ hq.out).mono ?_; rintro e w1 ⟨rfl, hg1, hp1⟩; have hq1 := Hid.mk' hp1; have hG1 := Hid.mk' hg1)
  have HB1 := Hid.mk' (HB.out.kept0 hG1.out)
  clear hg1 hp1 a0 hq HB
  go_upto_region 4 with (first
    | (at_builtin; refine wpList_append_any _ rfl _ _ 22 22 rfl i0 Try.underlying22 hi hz0 hz1 hz2 _ _ [b8 b] rfl (how.out w1) _ rfl L (src_of (HB1.out.alloc _) 22 cap Try.underlying22) (by simp; omega) M (by rw [← hM.out]; rfl) ?_; intro ao' c' wa hown hga hat; rw [hMl]; have q1 := hown.cap_le; have q2 := hown.cap_max; rw [hMl] at q1; have hgA : Hid (w1.grownBy wa none) := Hid.mk' (grownBy_new (ga (grownBy_refl _ _)) hga (by intro g e; simp [blk] at e; omega)))
    | (go_at_call 9; refine (a1.out ao' c' _ hown.bytes q1 q2 (Kp.out _ _ hq1.out hgA.out)).mono ?_; rintro e w3 ⟨rfl, hg3⟩)
    | (refine wpList_allocC _ rfl 28 rfl (gZ 0 0 0 0) (zeroG _) ?_; intro w4 g4 hg4)
    | (refine wpList_storeC _ rfl 28 _ _ rfl _ (gZ 0 0 0 0) (gZ 0 2 1 (n : Int)) infoG rfl (gC_one _ _ _ _ _ _ _ _ _) rfl rfl g4 ?_; intro w5 g5 hg5))
  have hG5 : Hid (wa.grownBy w5 none) := Hid.mk' (grownBy_new (gt hg3 hg4) hg5 (fun k hk => by have h5 := Option.some.inj hk; have h6 := hg3.size; omega))
  have hGw : Hid (w.grownBy w5 none) := Hid.mk' (gt hG1.out (gt hgA.out hG5.out))
  have hq5 := Hid.mk' (Kp.out _ _ hq1.out (gt hgA.out hG5.out))
  clear hown hga hat q1 q2 hgA hg3 hg4 hg5 g4 a1 HB1 hG1 hq1 hG5 hM hMl how
  generalize w3.heap.size = GB at *
  have y0 := g5.cell 0 (v := .int .i64 0) rfl
  have y1 := g5.cell 1 (v := .int .i64 2) rfl
  have y2 := g5.cell 2 (v := .int .i64 1) rfl
  have y3 := g5.cell 3 (v := .int .i32 (n : Int)) rfl
  have y4 := g5.cell 4 (v := .int .i32 0) rfl
  have y5 := g5.cell 5 (v := .int .i64 0) rfl
  have y6 := g5.cell 6 (v := .int .i64 0) rfl
  have y7 := g5.cell 7 (v := .int .u32 0) rfl
  have y8 := g5.cell 8 (v := .int .i32 0) rfl
  go_wp2
  go_ret
  exact ⟨rfl, hGw.out⟩
set_option maxRecDepth 100000 in
set_option maxHeartbeats 2000000 in
theorem plain_errb {P : World → Prop} (C : Con P) (b : Nat) (hb : b < 256) (ao : Option Addr) (cap : Nat) (L : List UInt8) (h1 : 223 < b) (z m : Int) (hz : (z != 0) = true) (hG : gE (b8 b :: L) = (z, m, 0, 0)) (w : World) (hw : P w) (hB : Bytes w ao L) (hLc : L.length ≤ cap) (hcm : cap ≤ 140737488351232) : Calls Try.prog 8 #[.int .u8 (b : Int), .slice ao L.length cap] w fun e w' => e = .returned (.bool true) ∧ w.grownBy w' none := by
  have a0 := Hid.mk' (fun w hw => works_any C w hw)
  have Kp := Hid.mk' (fun (a b : World) (h : P a) (g : a.grownBy b none) => C.keep h g)
  have hq := Hid.mk' hw
  have hlen : (b8 b :: L).length = L.length + 1 := by simp
  have a1 : Hid (∀ ao cap w, Bytes w ao (b8 b :: L) → L.length + 1 ≤ cap → cap ≤ 9223372036854775807 → P w → Calls Try.prog 9 #[.slice ao (L.length + 1) cap] w fun e w' => e = .returned (gV z m 0 0) ∧ w.grownBy w' none) := Hid.mk' (fun ao cap w h1 h2 h3 h4 => (C.got (b8 b :: L) _ _ _ _ hG).out _ hlen ao cap w h1 h2 h3 h4)
  obtain ⟨i0, hi, hz0, hz1, hz2⟩ := info_parts info5
  have HB : Hid (Bytes w ao L) := Hid.mk' hB
  have hLl : L.length ≤ 140737488351232 := by omega
  have how := Hid.mk' (fun w => own_one hb w)
  obtain ⟨M, hM⟩ : ∃ M, Hid (b8 b :: L = M) := ⟨_, Hid.mk' rfl⟩
  have hMl : M.length = L.length + 1 := by rw [← hM.out]; exact hlen
  rw [hM.out] at a1
  have hb' : (b : Int) < 256 := by omega
  have n92 : ((b : Int) == 92) = false := by simp; omega
  have n126 : ((b : Int) == 126) = false := by simp; omega
  have d128 : ¬ (b : Int) < 128 := by omega
  have k1 : decide (161 ≤ (b : Int)) = true := by simp; omega
  have k2 : decide ((b : Int) ≤ 223) = false := by simp; omega
  clear hw C hG hB hlen h1
  go_enter Try.func8, Try.ntmps8
  go_upto_region 3 with (go_at_call 17; refine (a0.out _ hq.out).mono ?_; rintro e w1 ⟨rfl, hg1, hp1⟩; have hq1 := Hid.mk' hp1; have hG1 := Hid.mk' hg1)
  have HB1 := Hid.mk' (HB.out.kept0 hG1.out)
  clear hg1 hp1 a0 hq HB
  go_upto_region 4 with (first
    | (at_builtin; refine wpList_append_any _ rfl _ _ 22 22 rfl i0 Try.underlying22 hi hz0 hz1 hz2 _ _ [b8 b] rfl (how.out w1) _ rfl L (src_of (HB1.out.alloc _) 22 cap Try.underlying22) (by simp; omega) M (by rw [← hM.out]; rfl) ?_; intro ao' c' wa hown hga hat; rw [hMl]; have q1 := hown.cap_le; have q2 := hown.cap_max; rw [hMl] at q1; have hgA : Hid (w1.grownBy wa none) := Hid.mk' (grownBy_new (ga (grownBy_refl _ _)) hga (by intro g e; simp [blk] at e; omega)))
    | (go_at_call 9; refine (a1.out ao' c' _ hown.bytes q1 q2 (Kp.out _ _ hq1.out hgA.out)).mono ?_; rintro e w3 ⟨rfl, hg3⟩)
    | (refine wpList_allocC _ rfl 28 rfl (gZ 0 0 0 0) (zeroG _) ?_; intro w4 g4 hg4)
    | (refine wpList_storeC _ rfl 28 _ _ rfl _ (gZ 0 0 0 0) (gZ z m 0 0) infoG rfl (gC_one _ _ _ _ _ _ _ _ _) rfl rfl g4 ?_; intro w5 g5 hg5))
  have hG5 : Hid (wa.grownBy w5 none) := Hid.mk' (grownBy_new (gt hg3 hg4) hg5 (fun k hk => by have h5 := Option.some.inj hk; have h6 := hg3.size; omega))
  have hGw : Hid (w.grownBy w5 none) := Hid.mk' (gt hG1.out (gt hgA.out hG5.out))
  have hq5 := Hid.mk' (Kp.out _ _ hq1.out (gt hgA.out hG5.out))
  clear hown hga hat q1 q2 hgA hg3 hg4 hg5 g4 a1 HB1 hG1 hq1 hG5 hM hMl how
  generalize w3.heap.size = GB at *
  have y0 := g5.cell 0 (v := .int .i64 z) rfl
  have y1 := g5.cell 1 (v := .int .i64 m) rfl
  have y2 := g5.cell 2 (v := .int .i64 0) rfl
  have y3 := g5.cell 3 (v := .int .i32 0) rfl
  have y4 := g5.cell 4 (v := .int .i32 0) rfl
  have y5 := g5.cell 5 (v := .int .i64 0) rfl
  have y6 := g5.cell 6 (v := .int .i64 0) rfl
  have y7 := g5.cell 7 (v := .int .u32 0) rfl
  have y8 := g5.cell 8 (v := .int .i32 0) rfl
  go_wp2
  go_ret
  exact ⟨rfl, hGw.out⟩
set_option maxRecDepth 100000 in
set_option maxHeartbeats 2000000 in
theorem plain_twob {P : World → Prop} (C : Con P) (b : Nat) (hb : b < 256) (ao : Option Addr) (cap : Nat) (L : List UInt8) (h1 : 223 < b) (n : Nat) (hG : gE (b8 b :: L) = (0, 2, 1, (n : Int))) (w : World) (hw : P w) (hB : Bytes w ao L) (hLc : L.length ≤ cap) (hcm : cap ≤ 140737488351232) : Calls Try.prog 8 #[.int .u8 (b : Int), .slice ao L.length cap] w fun e w' => e = .returned (.bool true) ∧ w.grownBy w' none := by
  have a0 := Hid.mk' (fun w hw => works_any C w hw)
  have Kp := Hid.mk' (fun (a b : World) (h : P a) (g : a.grownBy b none) => C.keep h g)
  have hq := Hid.mk' hw
  have hlen : (b8 b :: L).length = L.length + 1 := by simp
  have a1 : Hid (∀ ao cap w, Bytes w ao (b8 b :: L) → L.length + 1 ≤ cap → cap ≤ 9223372036854775807 → P w → Calls Try.prog 9 #[.slice ao (L.length + 1) cap] w fun e w' => e = .returned (gV 0 2 1 (n : Int)) ∧ w.grownBy w' none) := Hid.mk' (fun ao cap w h1 h2 h3 h4 => (C.got (b8 b :: L) _ _ _ _ hG).out _ hlen ao cap w h1 h2 h3 h4)
  obtain ⟨i0, hi, hz0, hz1, hz2⟩ := info_parts info5
  have HB : Hid (Bytes w ao L) := Hid.mk' hB
  have hLl : L.length ≤ 140737488351232 := by omega
  have how := Hid.mk' (fun w => own_one hb w)
  obtain ⟨M, hM⟩ : ∃ M, Hid (b8 b :: L = M) := ⟨_, Hid.mk' rfl⟩
  have hMl : M.length = L.length + 1 := by rw [← hM.out]; exact hlen
  rw [hM.out] at a1
  have hb' : (b : Int) < 256 := by omega
  have n92 : ((b : Int) == 92) = false := by simp; omega
  have n126 : ((b : Int) == 126) = false := by simp; omega
  have d128 : ¬ (b : Int) < 128 := by omega
  have k1 : decide (161 ≤ (b : Int)) = true := by simp; omega
  have k2 : decide ((b : Int) ≤ 223) = false := by simp; omega
  clear hw C hG hB hlen h1
  go_enter Try.func8, Try.ntmps8
  go_upto_region 3 with (go_at_call 17; refine (a0.out _ hq.out).mono ?_; rintro e w1 ⟨rfl, hg1, hp1⟩; have hq1 := Hid.mk' hp1; have hG1 := Hid.mk' hg1)
  have HB1 := Hid.mk' (HB.out.kept0 hG1.out)
  clear hg1 hp1 a0 hq HB
  go_upto_region 4 with (first
    | (at_builtin; refine wpList_append_any _ rfl _ _ 22 22 rfl i0 Try.underlying22 hi hz0 hz1 hz2 _ _ [b8 b] rfl (how.out w1) _ rfl L (src_of (HB1.out.alloc _) 22 cap Try.underlying22) (by simp; omega) M (by rw [← hM.out]; rfl) ?_; intro ao' c' wa hown hga hat; rw [hMl]; have q1 := hown.cap_le; have q2 := hown.cap_max; rw [hMl] at q1; have hgA : Hid (w1.grownBy wa none) := Hid.mk' (grownBy_new (ga (grownBy_refl _ _)) hga (by intro g e; simp [blk] at e; omega)))
    | (go_at_call 9; refine (a1.out ao' c' _ hown.bytes q1 q2 (Kp.out _ _ hq1.out hgA.out)).mono ?_; rintro e w3 ⟨rfl, hg3⟩)
    | (refine wpList_allocC _ rfl 28 rfl (gZ 0 0 0 0) (zeroG _) ?_; intro w4 g4 hg4)
    | (refine wpList_storeC _ rfl 28 _ _ rfl _ (gZ 0 0 0 0) (gZ 0 2 1 (n : Int)) infoG rfl (gC_one _ _ _ _ _ _ _ _ _) rfl rfl g4 ?_; intro w5 g5 hg5))
  have hG5 : Hid (wa.grownBy w5 none) := Hid.mk' (grownBy_new (gt hg3 hg4) hg5 (fun k hk => by have h5 := Option.some.inj hk; have h6 := hg3.size; omega))
  have hGw : Hid (w.grownBy w5 none) := Hid.mk' (gt hG1.out (gt hgA.out hG5.out))
  have hq5 := Hid.mk' (Kp.out _ _ hq1.out (gt hgA.out hG5.out))
  clear hown hga hat q1 q2 hgA hg3 hg4 hg5 g4 a1 HB1 hG1 hq1 hG5 hM hMl how
  generalize w3.heap.size = GB at *
  have y0 := g5.cell 0 (v := .int .i64 0) rfl
  have y1 := g5.cell 1 (v := .int .i64 2) rfl
  have y2 := g5.cell 2 (v := .int .i64 1) rfl
  have y3 := g5.cell 3 (v := .int .i32 (n : Int)) rfl
  have y4 := g5.cell 4 (v := .int .i32 0) rfl
  have y5 := g5.cell 5 (v := .int .i64 0) rfl
  have y6 := g5.cell 6 (v := .int .i64 0) rfl
  have y7 := g5.cell 7 (v := .int .u32 0) rfl
  have y8 := g5.cell 8 (v := .int .i32 0) rfl
  go_wp2
  go_ret
  exact ⟨rfl, hGw.out⟩
set_option maxRecDepth 100000 in
set_option maxHeartbeats 2000000 in
theorem plain_low {P : World → Prop} (C : Con P) (b : Nat) (hb : b < 256) (ao : Option Addr) (cap : Nat) (L : List UInt8) (h1 : b < 128) (h2 : ¬ b = 92) (h3 : ¬ b = 126) (hG : gE (b8 b :: L) = (0, 1, 1, (b : Int))) (hS : sE (b : Int) = (0, [b8 b])) (w : World) (hw : P w) (hB : Bytes w ao L) (hLc : L.length ≤ cap) (hcm : cap ≤ 140737488351232) : Calls Try.prog 8 #[.int .u8 (b : Int), .slice ao L.length cap] w fun e w' => e = .returned (.bool true) ∧ w.grownBy w' none := by
  have a0 := Hid.mk' (fun w hw => works_any C w hw)
  have Kp := Hid.mk' (fun (a b : World) (h : P a) (g : a.grownBy b none) => C.keep h g)
  have hq := Hid.mk' hw
  have hlen : (b8 b :: L).length = L.length + 1 := by simp
  have a1 : Hid (∀ ao cap w, Bytes w ao (b8 b :: L) → L.length + 1 ≤ cap → cap ≤ 9223372036854775807 → P w → Calls Try.prog 9 #[.slice ao (L.length + 1) cap] w fun e w' => e = .returned (gV 0 1 1 (b : Int)) ∧ w.grownBy w' none) := Hid.mk' (fun ao cap w h1 h2 h3 h4 => (C.got (b8 b :: L) _ _ _ _ hG).out _ hlen ao cap w h1 h2 h3 h4)
  obtain ⟨i0, hi, hz0, hz1, hz2⟩ := info_parts info5
  have HB : Hid (Bytes w ao L) := Hid.mk' hB
  have hLl : L.length ≤ 140737488351232 := by omega
  have how := Hid.mk' (fun w => own_one hb w)
  obtain ⟨M, hM⟩ : ∃ M, Hid (b8 b :: L = M) := ⟨_, Hid.mk' rfl⟩
  have hMl : M.length = L.length + 1 := by rw [← hM.out]; exact hlen
  rw [hM.out] at a1
  have hb' : (b : Int) < 256 := by omega
  have n92 : ((b : Int) == 92) = false := by simp; omega
  have n126 : ((b : Int) == 126) = false := by simp; omega
  have d128 : (b : Int) < 128 := by omega
  have a3 := C.put (b : Int) (by unfold I32; omega) _ _ hS
  have hwr : IntKind.i32.wrap (b : Int) = (b : Int) := by rw [IntKind.wrap_i32]; omega
  have hbb : ((b : Int) == (b : Int)) = true := by simp
  have hcv := Hid.mk' (fun w => conv_one hb w)
  have hcv2 : Hid (∀ (w wx : World), (w.alloc (.cells #[.int .u8 (b : Int)] 5)).grownBy wx none → (convert 22 9 (.slice (some ⟨w.heap.size, 0, none⟩) 1 1)).run Try.prog wx = .ok (.string (str [b8 b])) wx) := Hid.mk' (fun w wx hg => conv ((bytes_one hb w (0, 0)).kept0 hg) 22 9 1 Try.underlying22 Try.underlying5 Try.underlying9)
  obtain ⟨s, hs⟩ : ∃ s, str [b8 b] = s := ⟨_, rfl⟩
  rw [hs] at a3 hcv hcv2
  clear hw C hG hB hlen h1 h2 h3 hS hs
  go_enter Try.func8, Try.ntmps8
  go_upto_region 3 with (go_at_call 17; refine (a0.out _ hq.out).mono ?_; rintro e w1 ⟨rfl, hg1, hp1⟩; have hq1 := Hid.mk' hp1; have hG1 := Hid.mk' hg1)
  have HB1 := Hid.mk' (HB.out.kept0 hG1.out)
  clear hg1 hp1 a0 hq HB
  go_upto_region 4 with (first
    | (at_builtin; refine wpList_append_any _ rfl _ _ 22 22 rfl i0 Try.underlying22 hi hz0 hz1 hz2 _ _ [b8 b] rfl (how.out w1) _ rfl L (src_of (HB1.out.alloc _) 22 cap Try.underlying22) (by simp; omega) M (by rw [← hM.out]; rfl) ?_; intro ao' c' wa hown hga hat; rw [hMl]; have q1 := hown.cap_le; have q2 := hown.cap_max; rw [hMl] at q1; have hgA : Hid (w1.grownBy wa none) := Hid.mk' (grownBy_new (ga (grownBy_refl _ _)) hga (by intro g e; simp [blk] at e; omega)))
    | (go_at_call 9; refine (a1.out ao' c' _ hown.bytes q1 q2 (Kp.out _ _ hq1.out hgA.out)).mono ?_; rintro e w3 ⟨rfl, hg3⟩)
    | (refine wpList_allocC _ rfl 28 rfl (gZ 0 0 0 0) (zeroG _) ?_; intro w4 g4 hg4)
    | (refine wpList_storeC _ rfl 28 _ _ rfl _ (gZ 0 0 0 0) (gZ 0 1 1 (b : Int)) infoG rfl (gC_one _ _ _ _ _ _ _ _ _) rfl rfl g4 ?_; intro w5 g5 hg5))
  have hG5 : Hid (wa.grownBy w5 none) := Hid.mk' (grownBy_new (gt hg3 hg4) hg5 (fun k hk => by have h5 := Option.some.inj hk; have h6 := hg3.size; omega))
  have hGw : Hid (w.grownBy w5 none) := Hid.mk' (gt hG1.out (gt hgA.out hG5.out))
  have hq5 := Hid.mk' (Kp.out _ _ hq1.out (gt hgA.out hG5.out))
  clear hown hga hat q1 q2 hgA hg3 hg4 hg5 g4 a1 HB1 hG1 hq1 hG5 hM hMl how
  generalize w3.heap.size = GB at *
  have hcell : Hid (∀ wx, w5.grownBy wx none → (fun w' => w'.cell? ⟨GB, 0, none⟩ = some (.int .i64 0) ∧ w'.cell? ⟨GB, 1, none⟩ = some (.int .i64 1) ∧ w'.cell? ⟨GB, 2, none⟩ = some (.int .i64 1) ∧ w'.cell? ⟨GB, 3, none⟩ = some (.int .i32 (b : Int)) ∧ w'.cell? ⟨GB, 4, none⟩ = some (.int .i32 0) ∧ w'.cell? ⟨GB, 5, none⟩ = some (.int .i64 0) ∧ w'.cell? ⟨GB, 6, none⟩ = some (.int .i64 0) ∧ w'.cell? ⟨GB, 7, none⟩ = some (.int .u32 0) ∧ w'.cell? ⟨GB, 8, none⟩ = some (.int .i32 0)) wx) := Hid.mk' (fun wx hg => ⟨(g5.kept0 hg).cell 0 rfl, (g5.kept0 hg).cell 1 rfl, (g5.kept0 hg).cell 2 rfl, (g5.kept0 hg).cell 3 rfl, (g5.kept0 hg).cell 4 rfl, (g5.kept0 hg).cell 5 rfl, (g5.kept0 hg).cell 6 rfl, (g5.kept0 hg).cell 7 rfl, (g5.kept0 hg).cell 8 rfl⟩)
  have hD : w5.grownBy w5.drew none := grownBy_drew (grownBy_refl w5 none)
  go_upto_region 9 with (fail)
  refine wp_region_held_drew (S := fun w' => w'.cell? ⟨GB, 0, none⟩ = some (.int .i64 0) ∧ w'.cell? ⟨GB, 1, none⟩ = some (.int .i64 1) ∧ w'.cell? ⟨GB, 2, none⟩ = some (.int .i64 1) ∧ w'.cell? ⟨GB, 3, none⟩ = some (.int .i32 (b : Int)) ∧ w'.cell? ⟨GB, 4, none⟩ = some (.int .i32 0) ∧ w'.cell? ⟨GB, 5, none⟩ = some (.int .i64 0) ∧ w'.cell? ⟨GB, 6, none⟩ = some (.int .i64 0) ∧ w'.cell? ⟨GB, 7, none⟩ = some (.int .u32 0) ∧ w'.cell? ⟨GB, 8, none⟩ = some (.int .i32 0)) (by kernel_rfl) (hcell.out _ hD) (fun hHeld => ?_)
  refine wpAnyH_take (i := 0) (v := ?_) rfl (by kernel_rfl) (by kernel_rfl) (by kernel_rfl) (fun _ _ _ h => h) (Or.inl ⟨by rfl, ?_⟩) (by assumption) ?_; rotate_left
  · (intro w hSw; (try dsimp only at hSw); go_simp; try with_reducible rfl)
  try simp only [List.getElem_toArray, List.getElem_cons_zero, Act.put, List.setIfInBounds_toArray, List.set_cons_zero, List.set_cons_succ]
  refine wpAnyH_take (i := 1) (v := ?_) rfl (by kernel_rfl) (by kernel_rfl) (by kernel_rfl) (fun _ _ _ h => h) (Or.inl ⟨by rfl, ?_⟩) (by assumption) ?_; rotate_left
  · (intro w hSw; (try dsimp only at hSw); go_simp; try with_reducible rfl)
  try simp only [List.getElem_toArray, List.getElem_cons_zero, List.getElem_cons_succ, Act.put, List.setIfInBounds_toArray, List.set_cons_zero, List.set_cons_succ]
  refine wpAnyH_take (i := 2) (v := ?_) rfl (by kernel_rfl) (by kernel_rfl) (by kernel_rfl) (fun _ _ _ h => h) (Or.inl ⟨by rfl, ?_⟩) (by assumption) ?_; rotate_left
  · (intro w hSw; (try dsimp only at hSw); go_simp; try with_reducible rfl)
  try simp only [List.getElem_toArray, List.getElem_cons_zero, List.getElem_cons_succ, Act.put, List.setIfInBounds_toArray, List.set_cons_zero, List.set_cons_succ]
  refine wpAnyH_take (i := 3) (v := ?_) rfl (by kernel_rfl) (by kernel_rfl) (by kernel_rfl) (fun _ _ _ h => h) (Or.inl ⟨by rfl, ?_⟩) (by assumption) ?_; rotate_left
  · (intro w hSw; (try dsimp only at hSw); go_simp; try with_reducible rfl)
  try simp only [List.getElem_toArray, List.getElem_cons_zero, List.getElem_cons_succ, Act.put, List.setIfInBounds_toArray, List.set_cons_zero, List.set_cons_succ]
  refine wpAnyH_take (i := 4) (v := ?_) rfl (by kernel_rfl) (by kernel_rfl) (by kernel_rfl) (fun _ _ _ h => h) (Or.inl ⟨by rfl, ?_⟩) (by assumption) ?_; rotate_left
  · (intro w hSw; (try dsimp only at hSw); go_simp; try with_reducible rfl)
  try simp only [List.getElem_toArray, List.getElem_cons_zero, List.getElem_cons_succ, Act.put, List.setIfInBounds_toArray, List.set_cons_zero, List.set_cons_succ]
  refine wpAnyH_take (i := 5) (v := ?_) rfl (by kernel_rfl) (by kernel_rfl) (by kernel_rfl) (fun _ _ _ h => h) (Or.inl ⟨by rfl, ?_⟩) (by assumption) ?_; rotate_left
  · (intro w hSw; (try dsimp only at hSw); go_simp; try with_reducible rfl)
  try simp only [List.getElem_toArray, List.getElem_cons_zero, List.getElem_cons_succ, Act.put, List.setIfInBounds_toArray, List.set_cons_zero, List.set_cons_succ]
  refine wpAnyH_take (i := 6) (v := ?_) rfl (by kernel_rfl) (by kernel_rfl) (by kernel_rfl) (fun _ _ _ h => h) (Or.inl ⟨by rfl, ?_⟩) (by assumption) ?_; rotate_left
  · (intro w hSw; (try dsimp only at hSw); go_simp; try with_reducible rfl)
  try simp only [List.getElem_toArray, List.getElem_cons_zero, List.getElem_cons_succ, Act.put, List.setIfInBounds_toArray, List.set_cons_zero, List.set_cons_succ]
  refine wpAnyH_take (i := 7) (v := ?_) rfl (by kernel_rfl) (by kernel_rfl) (by kernel_rfl) (fun _ _ _ h => h) (Or.inl ⟨by rfl, ?_⟩) (by assumption) ?_; rotate_left
  · (intro w hSw; (try dsimp only at hSw); go_simp; try with_reducible rfl)
  try simp only [List.getElem_toArray, List.getElem_cons_zero, List.getElem_cons_succ, Act.put, List.setIfInBounds_toArray, List.set_cons_zero, List.set_cons_succ]
  refine wpAnyH_take (i := 9) (v := ?_) rfl (by kernel_rfl) (by kernel_rfl) (by kernel_rfl) (fun _ _ _ h => h) (Or.inl ⟨by rfl, ?_⟩) (by assumption) ?_; rotate_left
  · (intro w hSw; (try dsimp only at hSw); go_simp; try with_reducible rfl)
  try simp only [List.getElem_toArray, List.getElem_cons_zero, List.getElem_cons_succ, Act.put, List.setIfInBounds_toArray, List.set_cons_zero, List.set_cons_succ]
  refine wpAnyH_ready (rs := [8, 10]) (by kernel_rfl) (by simp) ?_
  refine AllReadyH.cons rfl (fun K hK => ?_) (AllReadyH.cons rfl (fun K hK => ?_) AllReadyH.nil)
  · go_simp
    refine (a3.out _ (Kp.out _ _ hq5.out hD)).mono ?_
    rintro e wA ⟨rfl, hgc⟩
    try dsimp only
    have hrA : w5.grownBy wA none := gt hD hgc
    refine hK.out _ _ (hcell.out _ hrA) (fun hHeld => ?_)
    clear hK K
    try simp only [List.getElem_toArray, List.getElem_cons_zero, List.getElem_cons_succ, Act.put, List.setIfInBounds_toArray, List.set_cons_zero, List.set_cons_succ]
    refine wpAnyH_ready (rs := [10]) (by kernel_rfl) (by simp) ?_
    refine AllReadyH.cons rfl (fun K hK => ?_) AllReadyH.nil
    go_simp
    have hrB : w5.grownBy _ none := gt hrA (World.grownBy_alloc _ (.cells #[.int .u8 (b : Int)] 5) none)
    refine hK.out _ _ (hcell.out _ hrB) (fun hHeld => ?_)
    clear hK K
    try simp only [List.getElem_toArray, List.getElem_cons_zero, List.getElem_cons_succ, Act.put, List.setIfInBounds_toArray, List.set_cons_zero, List.set_cons_succ]
    refine wpAnyH_ready (rs := [11]) (by kernel_rfl) (by simp) ?_
    refine AllReadyH.cons rfl (fun K hK => ?_) AllReadyH.nil
    refine step_run (by rfl) (exec_convert _ _ _ (by rfl) (by simp [Act.eval]) (hcv.out wA)) ?_
    refine hK.out _ _ (hcell.out _ hrB) (fun hHeld => ?_)
    clear hK K
    try simp only [List.getElem_toArray, List.getElem_cons_zero, List.getElem_cons_succ, Act.put, List.setIfInBounds_toArray, List.set_cons_zero, List.set_cons_succ]
    refine wpAnyH_take (i := 12) (v := ?_) rfl (by kernel_rfl) (by kernel_rfl) (by kernel_rfl) (fun _ _ _ h => h) (Or.inl ⟨by rfl, ?_⟩) (by assumption) ?_; rotate_left
    · (intro w hSw; (try dsimp only at hSw); go_simp; try with_reducible rfl)
    try simp only [List.getElem_toArray, List.getElem_cons_zero, List.getElem_cons_succ, Act.put, List.setIfInBounds_toArray, List.set_cons_zero, List.set_cons_succ]
    refine wpAnyH_take (i := 13) (v := ?_) rfl (by kernel_rfl) (by kernel_rfl) (by kernel_rfl) (fun _ _ _ h => h) (Or.inl ⟨by rfl, ?_⟩) (by assumption) ?_; rotate_left
    · (intro w hSw; (try dsimp only at hSw); go_simp; try with_reducible rfl)
    try simp only [List.getElem_toArray, List.getElem_cons_zero, List.getElem_cons_succ, Act.put, List.setIfInBounds_toArray, List.set_cons_zero, List.set_cons_succ]
    refine wpAnyH_take (i := 14) (v := ?_) rfl (by kernel_rfl) (by kernel_rfl) (by kernel_rfl) (fun _ _ _ h => h) (Or.inl ⟨by rfl, ?_⟩) (by assumption) ?_; rotate_left
    · (intro w hSw; (try dsimp only at hSw); go_simp; try with_reducible rfl)
    try simp only [List.getElem_toArray, List.getElem_cons_zero, List.getElem_cons_succ, Act.put, List.setIfInBounds_toArray, List.set_cons_zero, List.set_cons_succ]
    refine wpAnyH_take (i := 15) (v := ?_) rfl (by kernel_rfl) (by kernel_rfl) (by kernel_rfl) (fun _ _ _ h => h) (Or.inl ⟨by rfl, ?_⟩) (by assumption) ?_; rotate_left
    · (intro w hSw; (try dsimp only at hSw); go_simp; try with_reducible rfl)
    try simp only [List.getElem_toArray, List.getElem_cons_zero, List.getElem_cons_succ, Act.put, List.setIfInBounds_toArray, List.set_cons_zero, List.set_cons_succ]
    refine wpAnyH_done (by kernel_rfl) ?_ _
    go_wp2
    go_ret
    exact ⟨rfl, gt hGw.out hrB⟩
  · go_simp
    have hrB : w5.grownBy _ none := gt hD (World.grownBy_alloc _ (.cells #[.int .u8 (b : Int)] 5) none)
    refine hK.out _ _ (hcell.out _ hrB) (fun hHeld => ?_)
    clear hK K
    try simp only [List.getElem_toArray, List.getElem_cons_zero, List.getElem_cons_succ, Act.put, List.setIfInBounds_toArray, List.set_cons_zero, List.set_cons_succ]
    refine wpAnyH_ready (rs := [8, 11]) (by kernel_rfl) (by simp) ?_
    refine AllReadyH.cons rfl (fun K hK => ?_) (AllReadyH.cons rfl (fun K hK => ?_) AllReadyH.nil)
    · go_simp
      refine (a3.out _ (Kp.out _ _ hq5.out hrB)).mono ?_
      rintro e wA ⟨rfl, hgc⟩
      try dsimp only
      have hrA : w5.grownBy wA none := gt hrB hgc
      refine hK.out _ _ (hcell.out _ hrA) (fun hHeld => ?_)
      clear hK K
      try simp only [List.getElem_toArray, List.getElem_cons_zero, List.getElem_cons_succ, Act.put, List.setIfInBounds_toArray, List.set_cons_zero, List.set_cons_succ]
      refine wpAnyH_ready (rs := [11]) (by kernel_rfl) (by simp) ?_
      refine AllReadyH.cons rfl (fun K hK => ?_) AllReadyH.nil
      refine step_run (by rfl) (exec_convert _ _ _ (by rfl) (by simp [Act.eval]) (hcv2.out _ wA hgc)) ?_
      refine hK.out _ _ (hcell.out _ hrA) (fun hHeld => ?_)
      clear hK K
      try simp only [List.getElem_toArray, List.getElem_cons_zero, List.getElem_cons_succ, Act.put, List.setIfInBounds_toArray, List.set_cons_zero, List.set_cons_succ]
      refine wpAnyH_take (i := 12) (v := ?_) rfl (by kernel_rfl) (by kernel_rfl) (by kernel_rfl) (fun _ _ _ h => h) (Or.inl ⟨by rfl, ?_⟩) (by assumption) ?_; rotate_left
      · (intro w hSw; (try dsimp only at hSw); go_simp; try with_reducible rfl)
      try simp only [List.getElem_toArray, List.getElem_cons_zero, List.getElem_cons_succ, Act.put, List.setIfInBounds_toArray, List.set_cons_zero, List.set_cons_succ]
      refine wpAnyH_take (i := 13) (v := ?_) rfl (by kernel_rfl) (by kernel_rfl) (by kernel_rfl) (fun _ _ _ h => h) (Or.inl ⟨by rfl, ?_⟩) (by assumption) ?_; rotate_left
      · (intro w hSw; (try dsimp only at hSw); go_simp; try with_reducible rfl)
      try simp only [List.getElem_toArray, List.getElem_cons_zero, List.getElem_cons_succ, Act.put, List.setIfInBounds_toArray, List.set_cons_zero, List.set_cons_succ]
      refine wpAnyH_take (i := 14) (v := ?_) rfl (by kernel_rfl) (by kernel_rfl) (by kernel_rfl) (fun _ _ _ h => h) (Or.inl ⟨by rfl, ?_⟩) (by assumption) ?_; rotate_left
      · (intro w hSw; (try dsimp only at hSw); go_simp; try with_reducible rfl)
      try simp only [List.getElem_toArray, List.getElem_cons_zero, List.getElem_cons_succ, Act.put, List.setIfInBounds_toArray, List.set_cons_zero, List.set_cons_succ]
      refine wpAnyH_take (i := 15) (v := ?_) rfl (by kernel_rfl) (by kernel_rfl) (by kernel_rfl) (fun _ _ _ h => h) (Or.inl ⟨by rfl, ?_⟩) (by assumption) ?_; rotate_left
      · (intro w hSw; (try dsimp only at hSw); go_simp; try with_reducible rfl)
      try simp only [List.getElem_toArray, List.getElem_cons_zero, List.getElem_cons_succ, Act.put, List.setIfInBounds_toArray, List.set_cons_zero, List.set_cons_succ]
      refine wpAnyH_done (by kernel_rfl) ?_ _
      go_wp2
      go_ret
      exact ⟨rfl, gt hGw.out hrA⟩
    · refine step_run (by rfl) (exec_convert _ _ _ (by rfl) (by simp [Act.eval]) (hcv.out w5.drew)) ?_
      refine hK.out _ _ (hcell.out _ hrB) (fun hHeld => ?_)
      clear hK K
      try simp only [List.getElem_toArray, List.getElem_cons_zero, List.getElem_cons_succ, Act.put, List.setIfInBounds_toArray, List.set_cons_zero, List.set_cons_succ]
      refine wpAnyH_take (i := 12) (v := ?_) rfl (by kernel_rfl) (by kernel_rfl) (by kernel_rfl) (fun _ _ _ h => h) (Or.inl ⟨by rfl, ?_⟩) (by assumption) ?_; rotate_left
      · (intro w hSw; (try dsimp only at hSw); go_simp; try with_reducible rfl)
      try simp only [List.getElem_toArray, List.getElem_cons_zero, List.getElem_cons_succ, Act.put, List.setIfInBounds_toArray, List.set_cons_zero, List.set_cons_succ]
      refine wpAnyH_ready (rs := [8]) (by kernel_rfl) (by simp) ?_
      refine AllReadyH.cons rfl (fun K hK => ?_) AllReadyH.nil
      go_simp
      refine (a3.out _ (Kp.out _ _ hq5.out hrB)).mono ?_
      rintro e wA ⟨rfl, hgc⟩
      try dsimp only
      have hrA : w5.grownBy wA none := gt hrB hgc
      refine hK.out _ _ (hcell.out _ hrA) (fun hHeld => ?_)
      clear hK K
      try simp only [List.getElem_toArray, List.getElem_cons_zero, List.getElem_cons_succ, Act.put, List.setIfInBounds_toArray, List.set_cons_zero, List.set_cons_succ]
      refine wpAnyH_take (i := 13) (v := ?_) rfl (by kernel_rfl) (by kernel_rfl) (by kernel_rfl) (fun _ _ _ h => h) (Or.inl ⟨by rfl, ?_⟩) (by assumption) ?_; rotate_left
      · (intro w hSw; (try dsimp only at hSw); go_simp; try with_reducible rfl)
      try simp only [List.getElem_toArray, List.getElem_cons_zero, List.getElem_cons_succ, Act.put, List.setIfInBounds_toArray, List.set_cons_zero, List.set_cons_succ]
      refine wpAnyH_take (i := 14) (v := ?_) rfl (by kernel_rfl) (by kernel_rfl) (by kernel_rfl) (fun _ _ _ h => h) (Or.inl ⟨by rfl, ?_⟩) (by assumption) ?_; rotate_left
      · (intro w hSw; (try dsimp only at hSw); go_simp; try with_reducible rfl)
      try simp only [List.getElem_toArray, List.getElem_cons_zero, List.getElem_cons_succ, Act.put, List.setIfInBounds_toArray, List.set_cons_zero, List.set_cons_succ]
      refine wpAnyH_take (i := 15) (v := ?_) rfl (by kernel_rfl) (by kernel_rfl) (by kernel_rfl) (fun _ _ _ h => h) (Or.inl ⟨by rfl, ?_⟩) (by assumption) ?_; rotate_left
      · (intro w hSw; (try dsimp only at hSw); go_simp; try with_reducible rfl)
      try simp only [List.getElem_toArray, List.getElem_cons_zero, List.getElem_cons_succ, Act.put, List.setIfInBounds_toArray, List.set_cons_zero, List.set_cons_succ]
      refine wpAnyH_done (by kernel_rfl) ?_ _
      go_wp2
      go_ret
      exact ⟨rfl, gt hGw.out hrA⟩
theorem plain_walk {P : World → Prop} (C : Con P) (b : Nat) (hb : b < 256) (ao : Option Addr) (cap : Nat) (L : List UInt8) (w : World) (hw : P w) (hB : Bytes w ao L) (hLc : L.length ≤ cap) (hcm : cap ≤ 140737488351232) : Calls Try.prog 8 #[.int .u8 (b : Int), .slice ao L.length cap] w fun e w' => e = .returned (.bool true) ∧ w.grownBy w' none := by
  have e8 := b8_toNat hb
  have hone : ∀ n : Nat, C14.haR b = some n → gE (b8 b :: L) = (0, 1, 1, (n : Int)) := fun n hn => by
    unfold gE
    simp only [e8]
    rw [if_pos (ha_nolead hn)]
    unfold gE1
    rw [hn]
  by_cases h1 : b = 92
  · exact plain_92 C b hb ao cap L h1 (hone 165 (by rw [h1]; rfl)) w hw hB hLc hcm
  · by_cases h2 : b = 126
    · exact plain_126 C b hb ao cap L h2 (hone 8254 (by rw [h2]; rfl)) w hw hB hLc hcm
    · by_cases h3 : b < 128
      · have hh : C14.haR b = some b := by unfold C14.haR; rw [if_neg h1, if_neg h2, if_pos h3]
        have hS : sE (b : Int) = (0, [b8 b]) := by unfold sE; rw [C14.half_back b hb b hh]
        exact plain_low C b hb ao cap L h3 h1 h2 (hone b hh) hS w hw hB hLc hcm
      · by_cases h4 : 161 ≤ b ∧ b ≤ 223
        · have hh : C14.haR b = some (65377 + (b - 161)) := by unfold C14.haR; rw [if_neg h1, if_neg h2, if_neg h3, if_pos h4]
          exact plain_kana C b hb ao cap L h4.1 h4.2 _ rfl _ rfl (hone _ hh) w hw hB hLc hcm
        · have hh : C14.haR b = none := by unfold C14.haR; rw [if_neg h1, if_neg h2, if_neg h3, if_neg h4]
          have hw3 : (∃ e m : Int, (e != 0) = true ∧ gE (b8 b :: L) = (e, m, 0, 0)) ∨ ∃ n : Nat, gE (b8 b :: L) = (0, 2, 1, (n : Int)) := by
            unfold gE
            simp only [e8]
            cases hl : lead b with
            | false =>
              rw [if_pos rfl]
              unfold gE1
              rw [hh]
              exact .inl ⟨10, 1, rfl, rfl⟩
            | true =>
              rw [if_neg (by simp)]
              cases L with
              | nil => exact .inl ⟨1, 0, rfl, rfl⟩
              | cons c L =>
                simp only
                unfold gE2
                split
                · exact .inl ⟨10, 1, rfl, rfl⟩
                · split
                  · exact .inl ⟨10, 2, rfl, rfl⟩
                  · exact .inr ⟨_, rfl⟩
          rcases hw3 with ⟨e, m, he, hG⟩ | ⟨n, hG⟩
          · by_cases h5 : b < 161
            · exact plain_erra C b hb ao cap L (by omega) h5 e m he hG w hw hB hLc hcm
            · exact plain_errb C b hb ao cap L (by omega) e m he hG w hw hB hLc hcm
          · by_cases h5 : b < 161
            · exact plain_twoa C b hb ao cap L (by omega) h5 n hG w hw hB hLc hcm
            · exact plain_twob C b hb ao cap L (by omega) n hG w hw hB hLc hcm
end Go.Proofs.Ytkkdaoimnmghgaa.C18
