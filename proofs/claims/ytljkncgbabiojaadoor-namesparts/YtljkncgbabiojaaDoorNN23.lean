/- The document's Name, Kinds of layer 23: walks. -/
import Derived.Test.YtljkncgbabiojaaDoorNA23
import Derived.Test.YtljkncgbabiojaaDoorRi
import Derived.Deep.Cut
import Derived.BigQuiet
import Derived.Deep.QuietTactic
namespace Go.Proofs.YtljkncgbabiojaaDoor.C23
open Go.ChangeShapes Go.WideShapes Go.ChangeAt Go.RowKit Go.Proofs.YtljkncgbabiojaaDoor.Mem Go.Proofs.YtljkncgbabiojaaDoor.El Go.Proofs.YtljkncgbabiojaaDoor.St Go.Proofs.YtljkncgbabiojaaDoor.Ri
set_option linter.unusedVariables false
set_option linter.unusedSimpArgs false

set_option maxRecDepth 100000 in
set_option maxHeartbeats 1000000 in
theorem name_any (k : Int) (w : World) : Calls Tryd.prog 21 #[.int .i64 k] w fun e w' => e = .returned (.string (str (nm k))) ∧ w.grownBy w' none := by
  have a1 := Hid.mk' (aliases_any k)
  cases h : al k with
  | nil =>
    have hn : nm k = [] := by unfold nm; rw [h]; rfl
    rw [hn]
    rw [h] at a1
    go_enter Tryd.func21, Tryd.ntmps21
    go_wp2_with (go_at_call 29; refine (a1.out _).mono ?_; rintro e w1 ⟨ao, cap, rfl, h2, h3, h4⟩)
    go_ret
    exact ⟨rfl, h3⟩
  | cons s l =>
    have hn : nm k = s := by unfold nm; rw [h]; rfl
    rw [hn]
    rw [h] at a1
    obtain ⟨m, hm⟩ : ∃ m, l.length = m := ⟨_, rfl⟩
    go_enter Tryd.func21, Tryd.ntmps21
    go_upto_region 2 with (go_at_call 29; refine (a1.out _).mono ?_; rintro e w1 ⟨ao, cap, rfl, h2, h3, h4⟩)
    obtain ⟨g, rfl, hg, hf, hc⟩ := h2.at (by simp)
    have x0 : w1.cell? ⟨g, 0, none⟩ = some (.string (str s)) := hc 0 (by simp) 0 _ rfl
    have q1 := h2.cap_le
    have q2 := h2.cap_max
    have e0 : (0 : Int) < (l.length : Int) + 1 := by omega
    clear hc hf h2
    go_wp2
    go_ret
    exact ⟨rfl, h3⟩
def kdI : List Int := kdT.map (fun n : Nat => (n : Int))
def accK (i : Nat) : List Int := (kdT.filter (fun n => decide (n < i))).map (fun n : Nat => (n : Int))
theorem kdI_len : kdI.length = 56 := by unfold kdI; rw [List.length_map, kdT_len]
theorem accK_zero : accK 0 = [] := by unfold accK; simp
theorem kd_le : ∀ n ∈ kdT, n < 89 ∧ 1 ≤ n := by decide +kernel
theorem accK_all : accK 89 = kdI := by
  unfold accK kdI
  rw [List.filter_eq_self.2 (fun n hn => by simpa using (kd_le n hn).1)]
theorem accK_len (i : Nat) : (accK i).length ≤ 56 := by
  unfold accK
  rw [List.length_map, ← kdT_len]
  exact List.length_filter_le _ _
theorem accK_yes {i : Nat} (h : nm (i : Int) ≠ []) : accK i ++ [(i : Int)] = accK (i + 1) := by
  obtain ⟨n, hn, e⟩ := al_iff.1 (fun e => h (nm_iff.2 e))
  obtain rfl : n = i := by omega
  unfold accK
  rw [filt_step kdT n kdT_rise, if_pos hn, List.map_append]
  rfl
theorem accK_no {i : Nat} (h : nm (i : Int) = []) : accK (i + 1) = accK i := by
  unfold accK
  rw [filt_step kdT i kdT_rise, if_neg (fun hi => al_iff.2 ⟨i, hi, rfl⟩ (nm_iff.1 h)), List.append_nil]
set_option maxRecDepth 100000 in
set_option maxHeartbeats 1000000 in
theorem kinds_any (w : World) : Calls Tryd.prog 28 #[] w fun e w' => ∃ ao cap, e = .returned (.slice ao 56 cap) ∧ IiE.Own w' ao cap kdI ∧ w.grownBy w' none ∧ ∀ g, blk ao = some g → w.heap.size ≤ g := by
  go_enter Tryd.func28, Tryd.ntmps28
  go_wp2
  go_loopw [1, 2] (fun t1 t2 wx => ∃ (i : Nat) (ao : Option Addr) (cap : Nat), i ≤ 89 ∧ t2 = .int .i64 (i : Int) ∧ t1 = .slice ao (accK i).length cap ∧ Hid (IiE.Own wx ao cap (accK i)) ∧ Hid (∀ g, blk ao = some g → w.heap.size ≤ g) ∧ Hid (w.grownBy wx none)) (fun _ t2 _ => 89 - (intOf t2).toNat)
  case atStart => exact ⟨0, none, 0, by omega, rfl, by rw [accK_zero]; rfl, Hid.mk' (by rw [accK_zero]; exact .inl ⟨rfl, rfl, rfl⟩), Hid.mk' (by simp [blk]), Hid.mk' (grownBy_refl _ _)⟩
  case round =>
    obtain ⟨i, ao, cap, hi, rfl, rfl, ho, hb, hG⟩ := hrel
    by_cases hlt : i < 89
    · have hlt' : (i : Int) ≤ 88 := by omega
      obtain ⟨A, hA⟩ : ∃ A, Hid (accK i = A) := ⟨_, Hid.mk' rfl⟩
      obtain ⟨A2, hA2⟩ : ∃ A, Hid (accK (i + 1) = A) := ⟨_, Hid.mk' rfl⟩
      have hal : Hid (A.length ≤ 56) := Hid.mk' (by rw [← hA.out]; exact accK_len i)
      have ho2 : Hid (IiE.Own wr ao cap A) := Hid.mk' (by rw [← hA.out]; exact ho.out)
      rw [hA.out]
      clear ho
      obtain ⟨s, hs⟩ : ∃ s, Hid (nm (i : Int) = s) := ⟨_, Hid.mk' rfl⟩
      have a1 := Hid.mk' (name_any (i : Int))
      rw [hs.out] at a1
      by_cases hc : s = []
      · subst hc
        have hno := Hid.mk' (accK_no hs.out)
        obtain ⟨t, ht⟩ : ∃ t, Hid (str [] = t) := ⟨_, Hid.mk' rfl⟩
        rw [ht.out] at a1
        have f3 : t.toList.isEmpty = true := by rw [← ht.out, str_toList]; rfl
        go_wp2_with (go_at_call 21; refine (a1.out _).mono ?_; rintro e w1 ⟨rfl, g1⟩)
        go_roundw
        case rel => exact ⟨i + 1, ao, cap, by omega, by go_num, by rw [hno.out, hA.out], Hid.mk' (by rw [hno.out, hA.out]; exact ho2.out.kept0 g1), hb, Hid.mk' (gt hG.out g1)⟩
        all_goals (simp [intOf] <;> omega)
      · have hst : Hid (A ++ [(i : Int)] = A2) := Hid.mk' (by rw [← hA.out, ← hA2.out]; exact accK_yes (by rw [hs.out]; exact hc))
        have hA3 : Hid (A2 = accK (i + 1)) := Hid.mk' hA2.out.symm
        obtain ⟨t, ht⟩ : ∃ t, Hid (str s = t) := ⟨_, Hid.mk' rfl⟩
        rw [ht.out] at a1
        have f1 : (t.toList == ({ data := #[] } : ByteArray).toList) = false := by
          rw [← ht.out, str_toList]
          have e : (({ data := #[] } : ByteArray)).toList = [] := str_toList []
          rw [e]
          simpa using hc
        have f2 : (t.toList == []) = false := by rw [← ht.out, str_toList]; simpa using hc
        have f3 : t.toList.isEmpty = false := by rw [← ht.out, str_toList]; simpa using hc
        clear hA hA2 hc hs ht
        go_wp2_with (first
          | (go_at_call 21; refine (a1.out _).mono ?_; rintro e w1 ⟨rfl, g1⟩)
          | (at_builtin; refine wpList_ints _ rfl _ _ rfl ao cap A rfl ((ho2.out.kept0 g1).alloc _) _ rfl [(i : Int)] (src_int1 _ _) (by have := hal.out; simp; omega) A2 hst.out ?_; intro a2 c2 w2 o2 g2 f2))
        go_roundw
        case rel =>
          have q1 : w.grownBy (w1.alloc (.cells #[.int .i64 (i : Int)] 3)) none := gt hG.out (gt g1 (World.grownBy_alloc _ _ _))
          refine ⟨i + 1, a2, c2, by omega, by go_num, hA3.out ▸ rfl, Hid.mk' (hA3.out ▸ o2), Hid.mk' (fun g hg => ?_), Hid.mk' (grownBy_new q1 g2 (fun g hg => hb.out g hg))⟩
          rcases f2 with rfl | rfl
          · exact hb.out g hg
          · simp [blk] at hg; have := (gt hG.out g1).size; omega
        all_goals (simp [intOf] <;> omega)
    · obtain rfl : i = 89 := by omega
      have hl : (accK 89).length = 56 := by rw [accK_all, kdI_len]
      have ho2 := ho.out
      rw [accK_all] at ho2
      rw [hl]
      go_wp2
      go_ret
      exact ⟨ao, cap, rfl, ho2, hG.out, hb.out⟩
end Go.Proofs.YtljkncgbabiojaaDoor.C23
