/- The document's Candidates of layer 22: walks. -/
import Derived.Test.YtjhdepbiakekaaaTS22
import Derived.Test.YtjhdepbiakekaaaRefScalars
import Derived.Test.YtjhdepbiakekaaaRefSet
import Derived.Great.BuildSlice
import Derived.Lib.SlBytesConst
import Derived.Deep.Cut
import Derived.BigQuiet
import Derived.Deep.QuietTactic
namespace Go.Proofs.Ytjhdepbiakekaaa.C22
open Go.ChangeShapes Go.WideShapes Go.ChangeAt Go.RowKit Go.Proofs.Ytjhdepbiakekaaa.Mem Go.Proofs.Ytjhdepbiakekaaa.El Go.Proofs.Ytjhdepbiakekaaa.St Go.Proofs.Ytjhdepbiakekaaa.Ucs
set_option linter.unusedVariables false
set_option linter.unusedSimpArgs false

theorem gt {a b c : World} {row : Option Nat} (h : a.grownBy b row) (k : b.grownBy c row) : a.grownBy c row := grownBy_trans h k
def letB : List UInt8 := [195, 128, 195, 129, 195, 130, 195, 131, 195, 135, 195, 136, 195, 137, 195, 138, 195, 139, 195, 140, 195, 141, 195, 142, 195, 143, 195, 144, 195, 145, 195, 146, 195, 147, 195, 148, 195, 149, 195, 151, 195, 152, 195, 153, 195, 154, 195, 155, 195, 157, 195, 160, 195, 161, 195, 162, 195, 163, 195, 167, 195, 168, 195, 169, 195, 170, 195, 171, 195, 172, 195, 173, 195, 174, 195, 175, 195, 176, 195, 177, 195, 178, 195, 179, 195, 180, 195, 181, 195, 183, 195, 184, 195, 185, 195, 186, 195, 187, 195, 189, 195, 191]
def letZ : List Int := [195, 128, 195, 129, 195, 130, 195, 131, 195, 135, 195, 136, 195, 137, 195, 138, 195, 139, 195, 140, 195, 141, 195, 142, 195, 143, 195, 144, 195, 145, 195, 146, 195, 147, 195, 148, 195, 149, 195, 151, 195, 152, 195, 153, 195, 154, 195, 155, 195, 157, 195, 160, 195, 161, 195, 162, 195, 163, 195, 167, 195, 168, 195, 169, 195, 170, 195, 171, 195, 172, 195, 173, 195, 174, 195, 175, 195, 176, 195, 177, 195, 178, 195, 179, 195, 180, 195, 181, 195, 183, 195, 184, 195, 185, 195, 186, 195, 187, 195, 189, 195, 191]
def plnB : List UInt8 := [65, 65, 65, 65, 67, 69, 69, 69, 69, 73, 73, 73, 73, 68, 78, 79, 79, 79, 79, 120, 79, 85, 85, 85, 89, 97, 97, 97, 97, 99, 101, 101, 101, 101, 105, 105, 105, 105, 100, 110, 111, 111, 111, 111, 58, 111, 117, 117, 117, 121, 121]
theorem letZ_is : letZ = letB.map (fun b => (b.toNat : Int)) := by decide +kernel
theorem letB_len : letB.length = 102 := by decide +kernel
theorem plnB_len : plnB.length = 51 := by decide +kernel
theorem letT_len : letT.length = 51 := by decide +kernel
theorem let_scan : U8.scanAll letB = (letT.map (·.1), 102, 0) := by decide +kernel
theorem let_pln : ∀ i (h : i < letT.length), (letT[i]).2 = plnB.getD i 0 := by decide +kernel
theorem let_find : ∀ i (h : i < letT.length), letT.find? (fun p => decide ((p.1 : Int) = ((letT[i]).1 : Int))) = some (letT[i]) ∧ (letT[i]).1 < 65281 := by decide +kernel
theorem row_len : (∀ p ∈ lowT, p.2.length ≤ 3) ∧ (∀ p ∈ higT, p.2.length ≤ 3) ∧ (∀ p ∈ mrkT, p.2.length ≤ 3) := by decide +kernel
theorem look_len {T : List (Nat × List (List UInt8))} (h : ∀ p ∈ T, p.2.length ≤ 3) (u : Int) : (look T u).length ≤ 3 := by
  unfold look
  split
  · rename_i p hp
    exact h p (List.mem_of_find?_eq_some hp)
  · simp
theorem bytes_row (w : World) (L : List UInt8) (cs : Array Value) (fr : Nat × Nat) (h : cs.toList = L.map (fun b => Value.int .u8 (b.toNat : Int))) : Bytes (w.alloc (.cells cs 5 fr)) (some ⟨w.heap.size, 0, none⟩) L := .inr ⟨_, rfl, fun j hj => by
  rw [addr_add, Nat.zero_add]
  refine cell_at (heap_alloc_new w _) j ?_
  rw [← Array.getElem?_toList, h, List.getElem?_map, List.getElem?_eq_getElem hj]
  rfl⟩
theorem one_of (L : List UInt8) (i : Nat) (h : i < L.length) : (str L).extract i (i + 1) = str [L.getD i 0] := by
  have e : ((str L).extract i (i + 1)).data = (str [L.getD i 0]).data := by
    rw [ByteArray.data_extract]
    apply Array.toList_inj.1
    rw [Array.toList_extract]
    simp only [str, List.extract_eq_take_drop, Nat.add_sub_cancel_left]
    rw [List.drop_eq_getElem_cons h, List.getD_eq_getElem?_getD, List.getElem?_eq_getElem h]
    rfl
  cases h1 : (str L).extract i (i + 1)
  cases h2 : str [L.getD i 0]
  rw [h1, h2] at e
  exact congrArg _ e
set_option maxRecDepth 100000 in
set_option maxHeartbeats 1000000 in
theorem cand_wide (n : Nat) (h1 : 33 ≤ n) (h2 : n ≤ 126) (u : Int) (hu : u - 65248 = (n : Int)) (w : World) : Calls Try.prog 9 #[.int .i32 u] w fun e w' => STold w [[UInt8.ofNat n]] e w' := by
  have d1 : decide (65281 ≤ u) = true := by simp; omega
  have d2 : decide (u ≤ 65374) = true := by simp; omega
  have d3 : wrap32 (u - 65248) = (n : Int) := by unfold wrap32; omega
  have a1 : Hid (∀ w, Calls Try.prog 19 #[.int .i32 (n : Int)] w fun e w' => e = .returned (U8.putV 0 (str [UInt8.ofNat n])) ∧ w.grownBy w' none) := Hid.mk' (fun w => by
    have h := U8.refset_some n w (by unfold scB; simp; omega)
    have e : U8.unit n = [UInt8.ofNat n] := by unfold U8.unit; rw [if_pos (by omega)]
    rwa [e] at h)
  go_enter Try.func9, Try.ntmps9
  go_wp2_with (go_at_call 19; refine (a1.out _).mono ?_; rintro e w1 ⟨rfl, hg1⟩; have hf := U8.put_bytes 0 (str [UInt8.ofNat n]) w1)
  go_ret
  obtain ⟨ao, cap, he, ho, hg, hb⟩ := told_lit w1 #[.string (str [UInt8.ofNat n])] [[UInt8.ofNat n]] 1 rfl rfl (by simp)
  exact ⟨ao, cap, he, ho, gt hg1 hg, fun g hq => Nat.le_trans hg1.size (hb g hq)⟩
theorem let_hit {u : Int} {i : Nat} (h : i < letT.length) (e : ((letT[i]).1 : Int) = u) : (match letT.find? (fun p => decide ((p.1 : Int) = u)) with | some p => [[p.2]] | none => look lowT u ++ look higT u ++ look mrkT u) = [[plnB.getD i 0]] := by
  subst e
  rw [(let_find i h).1]
  simp only
  rw [let_pln i h]
theorem let_miss {u : Int} (h : ∀ i (h : i < letT.length), ¬ ((letT[i]).1 : Int) = u) : (match letT.find? (fun p => decide ((p.1 : Int) = u)) with | some p => [[p.2]] | none => look lowT u ++ look higT u ++ look mrkT u) = look lowT u ++ look higT u ++ look mrkT u := by
  rw [find_none (fun p hp => by
    obtain ⟨i, hi, e⟩ := List.getElem_of_mem hp
    subst e
    exact h i hi)]
set_option maxRecDepth 100000 in
set_option maxHeartbeats 1000000 in
theorem cand_lowa (u : Int) (hd : decide (65281 ≤ u) = false) (w : World) : Calls Try.prog 9 #[.int .i32 u] w fun e w' => STold w (match letT.find? (fun p => decide ((p.1 : Int) = u)) with | some p => [[p.2]] | none => look lowT u ++ look higT u ++ look mrkT u) e w' := by
  obtain ⟨R, hR⟩ : ∃ R, Hid ((match letT.find? (fun p => decide ((p.1 : Int) = u)) with | some p => [[p.2]] | none => look lowT u ++ look higT u ++ look mrkT u) = R) := ⟨_, Hid.mk' rfl⟩
  rw [hR.out]
  have hE := Hid.mk' let_scan
  have l1 := Hid.mk' (look_len row_len.1 u)
  have l2 := Hid.mk' (look_len row_len.2.1 u)
  have l3 := Hid.mk' (look_len row_len.2.2 u)
  go_enter Try.func9, Try.ntmps9
  go_upto_region 3 with fail
  have hcv := Go.Lib.run_convert_bytes_const (P := Try.prog) w 35 5 (letZ.map (Value.int .u8)).toArray 102 102 Try.underlying35 Try.underlying5
  have hBy : Hid (∀ fr, Bytes (w.alloc (.cells (letZ.map (Value.int .u8)).toArray 5 fr)) (some ⟨w.heap.size, 0, none⟩) letB) := Hid.mk' (fun fr => bytes_row w letB _ fr (by rw [letZ_is]; simp))
  refine wp_region_lit ?_
  refine wpList_buildFlat rfl 35 5 102 _ rfl .u8 letZ Try.underlying35 (by kernel_rfl) (by kernel_rfl) (by kernel_rfl) (by decide) (by decide) (by kernel_rfl) ?_
  have a1 : Hid (∀ ws ao, Bytes ws ao letB → Calls Try.prog 16 #[.slice ao 102 102] ws fun e w' => ∃ ro rc, e = .returned (.tuple #[.slice ro 51 rc, .int .i64 102, .int .i64 0]) ∧ MemR.Bytes w' ro (U8.ints (letT.map (·.1))) ∧ ws.grownBy w' none) := Hid.mk' (fun ws ao hb => by
    have h := U8.refscalars_any ao 102 letB ws hb (by rw [letB_len]; omega) (by rw [letB_len]; omega) (by omega) 0 102 (letT.map (·.1)) hE
    rw [letB_len, List.length_map, letT_len] at h
    exact h)
  go_upto_region 5 with (go_at_call 16; refine (a1.out _ _ (hBy.out _)).mono ?_; rintro e w1 ⟨ro, rc, rfl, hro, hg1⟩)
  obtain ⟨b, o, rfl, hq⟩ := U8.runes_cell hro (by intro e; have h5 := congrArg List.length e; rw [U8.ints, List.length_map, List.length_map, letT_len] at h5; simp at h5)
  have hc : Hid (∀ i (h : i < letT.length) wx, w1.grownBy wx none → wx.cell? ⟨b, o + i, none⟩ = some (.int .i32 ((letT[i]).1 : Int))) := Hid.mk' (fun i h wx hg => by
    have := hg.cell (hq i (by rw [U8.ints, List.length_map, List.length_map]; exact h)) (by simp)
    simpa [U8.ints] using this)
  have hG : Hid (w.grownBy w1 none) := Hid.mk' (gt (World.grownBy_alloc _ _ _) hg1)
  have hN := Hid.mk' letT_len
  clear hq hro hg1 hcv hBy a1 hE
  go_loopw [6] (fun t6 wx => ∃ i : Nat, i ≤ 51 ∧ t6 = .int .i64 (i : Int) ∧ Hid (∀ j (h : j < letT.length), j < i → ¬ ((letT[j]).1 : Int) = u) ∧ Hid (w1.grownBy wx none)) (fun t6 _ => 51 - (intOf t6).toNat)
  case atStart => exact ⟨0, by omega, rfl, Hid.mk' (by omega), Hid.mk' (grownBy_refl _ _)⟩
  case round =>
    obtain ⟨i, hi, rfl, hn, hgx⟩ := hrel
    by_cases hlt : i < 51
    · have hiL : i < letT.length := by rw [hN.out]; exact hlt
      have x1 := hc.out i hiL _ hgx.out
      have hlt' : (i : Int) < 51 := by omega
      have hi0 : (0 : Int) ≤ (i : Int) := by omega
      obtain ⟨z, hz⟩ : ∃ z, Hid (((letT[i]).1 : Int) = z) := ⟨_, Hid.mk' rfl⟩
      rw [hz.out] at x1
      by_cases hzu : z = u
      · have hzu' : (z == u) = true := by simpa using hzu
        have hx : (str plnB).extract i (i + 1) = str [plnB.getD i 0] := one_of plnB i (by rw [plnB_len]; exact hlt)
        obtain ⟨c, hc0⟩ : ∃ c, Hid (plnB.getD i 0 = c) := ⟨_, Hid.mk' rfl⟩
        rw [hc0.out] at hx
        have hRe : R = [[c]] := by rw [← hR.out, ← hc0.out]; exact let_hit hiL (by rw [hz.out]; exact hzu)
        subst hRe
        clear hR hiL hz hzu hc0
        have i1 : (i : Int) ≤ (i : Int) + 1 := by omega
        have i2 : (i : Int) + 1 ≤ 51 := by omega
        have i3 : (0 : Int) ≤ (i : Int) + 1 := by omega
        go_wp2
        go_ret
        obtain ⟨ao, cap, he, ho, hg, hb⟩ := told_lit wr _ [[c]] 1 rfl (show [Value.string _] = [Value.string (str [c])] by rw [← hx]) (by simp)
        have hg9 := gt hG.out hgx.out
        exact ⟨ao, cap, he, ho, gt hg9 hg, fun g hq => Nat.le_trans hg9.size (hb g hq)⟩
      · have hzu' : (z == u) = false := by simpa using hzu
        go_wp2
        go_roundw
        case rel => exact ⟨i + 1, by omega, by go_num, Hid.mk' (fun j h hj => by
          by_cases e : j = i
          · subst e; rw [hz.out]; exact hzu
          · exact hn.out j h (by omega)), hgx⟩
        all_goals (simp [intOf]; omega)
    · obtain rfl : i = 51 := by omega
      have hRe0 : look lowT u ++ look higT u ++ look mrkT u = R := by rw [← hR.out]; exact (let_miss (fun j h => hn.out j h (by rw [← hN.out]; exact h))).symm
      obtain ⟨LH, hLH⟩ : ∃ LH, Hid (look lowT u ++ look higT u = LH) := ⟨_, Hid.mk' rfl⟩
      rw [hLH.out] at hRe0
      have hRe := Hid.mk' hRe0
      have l4 : Hid (LH.length ≤ 6) := Hid.mk' (by rw [← hLH.out, List.length_append]; have := l1.out; have := l2.out; omega)
      clear hR hn hN hc hRe0
      have hGx : Hid (w.grownBy wr none) := Hid.mk' (gt hG.out hgx.out)
      go_wp2_with (first
        | (go_at_call 20; refine (low_any u _).mono ?_; rintro e wa ⟨aa, ca, rfl, oa, ga, fa⟩)
        | (go_at_call 21; refine (high_any u _).mono ?_; rintro e wb ⟨ab, cb, rfl, ob, gb, fb⟩)
        | (at_builtin; refine wpList_strs _ rfl _ _ rfl aa ca (look lowT u) rfl (oa.kept0 gb) _ rfl (look higT u) (src_strs ob.rd cb) (by have := l1.out; have := l2.out; omega) LH hLH.out ?_; intro ac cc wc oc gc hc)
        | (go_at_call 22; refine (marks_any u _).mono ?_; rintro e wd ⟨ad, cd, rfl, od, gd, fd⟩)
        | (at_builtin; refine wpList_strs _ rfl _ _ rfl ac cc LH rfl (oc.kept0 gd) _ rfl (look mrkT u) (src_strs od.rd cd) (by have := l4.out; have := l3.out; omega) R hRe.out ?_; intro ae ce we oe ge he))
      go_ret
      have h0 := hGx.out.size
      have h1 := ga.size
      have h2 := gb.size
      have h4 := gd.size
      have g1 : w.grownBy wb none := gt hGx.out (gt ga gb)
      have g2 : w.grownBy wc none := grownBy_new g1 gc (fun g hg => Nat.le_trans h0 (fa g hg))
      have f2 : ∀ g, blk ac = some g → w.heap.size ≤ g := by
        intro g hg
        rcases hc with rfl | rfl
        · exact Nat.le_trans h0 (fa g hg)
        · simp [blk] at hg; have := g1.size; omega
      have g3 : w.grownBy we none := grownBy_new (gt g2 gd) ge f2
      refine ⟨ae, ce, rfl, oe, g3, ?_⟩
      intro g hg
      rcases he with rfl | rfl
      · exact f2 g hg
      · simp [blk] at hg; have := (gt g2 gd).size; omega
set_option maxRecDepth 100000 in
set_option maxHeartbeats 1000000 in
theorem cand_lowb (u : Int) (hd : decide (65281 ≤ u) = true) (hd2 : decide (u ≤ 65374) = false) (w : World) : Calls Try.prog 9 #[.int .i32 u] w fun e w' => STold w (match letT.find? (fun p => decide ((p.1 : Int) = u)) with | some p => [[p.2]] | none => look lowT u ++ look higT u ++ look mrkT u) e w' := by
  obtain ⟨R, hR⟩ : ∃ R, Hid ((match letT.find? (fun p => decide ((p.1 : Int) = u)) with | some p => [[p.2]] | none => look lowT u ++ look higT u ++ look mrkT u) = R) := ⟨_, Hid.mk' rfl⟩
  rw [hR.out]
  have hE := Hid.mk' let_scan
  have l1 := Hid.mk' (look_len row_len.1 u)
  have l2 := Hid.mk' (look_len row_len.2.1 u)
  have l3 := Hid.mk' (look_len row_len.2.2 u)
  go_enter Try.func9, Try.ntmps9
  go_upto_region 3 with fail
  have hcv := Go.Lib.run_convert_bytes_const (P := Try.prog) w 35 5 (letZ.map (Value.int .u8)).toArray 102 102 Try.underlying35 Try.underlying5
  have hBy : Hid (∀ fr, Bytes (w.alloc (.cells (letZ.map (Value.int .u8)).toArray 5 fr)) (some ⟨w.heap.size, 0, none⟩) letB) := Hid.mk' (fun fr => bytes_row w letB _ fr (by rw [letZ_is]; simp))
  refine wp_region_lit ?_
  refine wpList_buildFlat rfl 35 5 102 _ rfl .u8 letZ Try.underlying35 (by kernel_rfl) (by kernel_rfl) (by kernel_rfl) (by decide) (by decide) (by kernel_rfl) ?_
  have a1 : Hid (∀ ws ao, Bytes ws ao letB → Calls Try.prog 16 #[.slice ao 102 102] ws fun e w' => ∃ ro rc, e = .returned (.tuple #[.slice ro 51 rc, .int .i64 102, .int .i64 0]) ∧ MemR.Bytes w' ro (U8.ints (letT.map (·.1))) ∧ ws.grownBy w' none) := Hid.mk' (fun ws ao hb => by
    have h := U8.refscalars_any ao 102 letB ws hb (by rw [letB_len]; omega) (by rw [letB_len]; omega) (by omega) 0 102 (letT.map (·.1)) hE
    rw [letB_len, List.length_map, letT_len] at h
    exact h)
  go_upto_region 5 with (go_at_call 16; refine (a1.out _ _ (hBy.out _)).mono ?_; rintro e w1 ⟨ro, rc, rfl, hro, hg1⟩)
  obtain ⟨b, o, rfl, hq⟩ := U8.runes_cell hro (by intro e; have h5 := congrArg List.length e; rw [U8.ints, List.length_map, List.length_map, letT_len] at h5; simp at h5)
  have hc : Hid (∀ i (h : i < letT.length) wx, w1.grownBy wx none → wx.cell? ⟨b, o + i, none⟩ = some (.int .i32 ((letT[i]).1 : Int))) := Hid.mk' (fun i h wx hg => by
    have := hg.cell (hq i (by rw [U8.ints, List.length_map, List.length_map]; exact h)) (by simp)
    simpa [U8.ints] using this)
  have hG : Hid (w.grownBy w1 none) := Hid.mk' (gt (World.grownBy_alloc _ _ _) hg1)
  have hN := Hid.mk' letT_len
  clear hq hro hg1 hcv hBy a1 hE
  go_loopw [6] (fun t6 wx => ∃ i : Nat, i ≤ 51 ∧ t6 = .int .i64 (i : Int) ∧ Hid (∀ j (h : j < letT.length), j < i → ¬ ((letT[j]).1 : Int) = u) ∧ Hid (w1.grownBy wx none)) (fun t6 _ => 51 - (intOf t6).toNat)
  case atStart => exact ⟨0, by omega, rfl, Hid.mk' (by omega), Hid.mk' (grownBy_refl _ _)⟩
  case round =>
    obtain ⟨i, hi, rfl, hn, hgx⟩ := hrel
    by_cases hlt : i < 51
    · have hiL : i < letT.length := by rw [hN.out]; exact hlt
      have x1 := hc.out i hiL _ hgx.out
      have hlt' : (i : Int) < 51 := by omega
      have hi0 : (0 : Int) ≤ (i : Int) := by omega
      obtain ⟨z, hz⟩ : ∃ z, Hid (((letT[i]).1 : Int) = z) := ⟨_, Hid.mk' rfl⟩
      rw [hz.out] at x1
      by_cases hzu : z = u
      · have hzu' : (z == u) = true := by simpa using hzu
        have hx : (str plnB).extract i (i + 1) = str [plnB.getD i 0] := one_of plnB i (by rw [plnB_len]; exact hlt)
        obtain ⟨c, hc0⟩ : ∃ c, Hid (plnB.getD i 0 = c) := ⟨_, Hid.mk' rfl⟩
        rw [hc0.out] at hx
        have hRe : R = [[c]] := by rw [← hR.out, ← hc0.out]; exact let_hit hiL (by rw [hz.out]; exact hzu)
        subst hRe
        clear hR hiL hz hzu hc0
        have i1 : (i : Int) ≤ (i : Int) + 1 := by omega
        have i2 : (i : Int) + 1 ≤ 51 := by omega
        have i3 : (0 : Int) ≤ (i : Int) + 1 := by omega
        go_wp2
        go_ret
        obtain ⟨ao, cap, he, ho, hg, hb⟩ := told_lit wr _ [[c]] 1 rfl (show [Value.string _] = [Value.string (str [c])] by rw [← hx]) (by simp)
        have hg9 := gt hG.out hgx.out
        exact ⟨ao, cap, he, ho, gt hg9 hg, fun g hq => Nat.le_trans hg9.size (hb g hq)⟩
      · have hzu' : (z == u) = false := by simpa using hzu
        go_wp2
        go_roundw
        case rel => exact ⟨i + 1, by omega, by go_num, Hid.mk' (fun j h hj => by
          by_cases e : j = i
          · subst e; rw [hz.out]; exact hzu
          · exact hn.out j h (by omega)), hgx⟩
        all_goals (simp [intOf]; omega)
    · obtain rfl : i = 51 := by omega
      have hRe0 : look lowT u ++ look higT u ++ look mrkT u = R := by rw [← hR.out]; exact (let_miss (fun j h => hn.out j h (by rw [← hN.out]; exact h))).symm
      obtain ⟨LH, hLH⟩ : ∃ LH, Hid (look lowT u ++ look higT u = LH) := ⟨_, Hid.mk' rfl⟩
      rw [hLH.out] at hRe0
      have hRe := Hid.mk' hRe0
      have l4 : Hid (LH.length ≤ 6) := Hid.mk' (by rw [← hLH.out, List.length_append]; have := l1.out; have := l2.out; omega)
      clear hR hn hN hc hRe0
      have hGx : Hid (w.grownBy wr none) := Hid.mk' (gt hG.out hgx.out)
      go_wp2_with (first
        | (go_at_call 20; refine (low_any u _).mono ?_; rintro e wa ⟨aa, ca, rfl, oa, ga, fa⟩)
        | (go_at_call 21; refine (high_any u _).mono ?_; rintro e wb ⟨ab, cb, rfl, ob, gb, fb⟩)
        | (at_builtin; refine wpList_strs _ rfl _ _ rfl aa ca (look lowT u) rfl (oa.kept0 gb) _ rfl (look higT u) (src_strs ob.rd cb) (by have := l1.out; have := l2.out; omega) LH hLH.out ?_; intro ac cc wc oc gc hc)
        | (go_at_call 22; refine (marks_any u _).mono ?_; rintro e wd ⟨ad, cd, rfl, od, gd, fd⟩)
        | (at_builtin; refine wpList_strs _ rfl _ _ rfl ac cc LH rfl (oc.kept0 gd) _ rfl (look mrkT u) (src_strs od.rd cd) (by have := l4.out; have := l3.out; omega) R hRe.out ?_; intro ae ce we oe ge he))
      go_ret
      have h0 := hGx.out.size
      have h1 := ga.size
      have h2 := gb.size
      have h4 := gd.size
      have g1 : w.grownBy wb none := gt hGx.out (gt ga gb)
      have g2 : w.grownBy wc none := grownBy_new g1 gc (fun g hg => Nat.le_trans h0 (fa g hg))
      have f2 : ∀ g, blk ac = some g → w.heap.size ≤ g := by
        intro g hg
        rcases hc with rfl | rfl
        · exact Nat.le_trans h0 (fa g hg)
        · simp [blk] at hg; have := g1.size; omega
      have g3 : w.grownBy we none := grownBy_new (gt g2 gd) ge f2
      refine ⟨ae, ce, rfl, oe, g3, ?_⟩
      intro g hg
      rcases he with rfl | rfl
      · exact f2 g hg
      · simp [blk] at hg; have := (gt g2 gd).size; omega
theorem cand_any (u : Int) (w : World) : Calls Try.prog 9 #[.int .i32 u] w fun e w' => STold w (cands u) e w' := by
  by_cases hw : 65281 ≤ u ∧ u ≤ 65374
  · rw [cands_wide hw]
    exact cand_wide (u - 65248).toNat (by omega) (by omega) u (by omega) w
  · unfold cands
    rw [if_neg hw]
    by_cases h1 : 65281 ≤ u
    · exact cand_lowb u (by simpa using h1) (by simp; omega) w
    · exact cand_lowa u (by simpa using h1) w
end Go.Proofs.Ytjhdepbiakekaaa.C22
