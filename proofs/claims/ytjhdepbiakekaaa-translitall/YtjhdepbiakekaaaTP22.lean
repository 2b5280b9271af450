/- The program's texts.present of layer 22: a walk. -/
import Derived.Test.YtjhdepbiakekaaaTC22
import Derived.Test.YtjhdepbiakekaaaTL22
import Derived.Deep.LoopGhost
namespace Go.Proofs.Ytjhdepbiakekaaa.C22
open Go.ChangeShapes Go.WideShapes Go.ChangeAt Go.RowKit Go.Proofs.Ytjhdepbiakekaaa.Mem Go.Proofs.Ytjhdepbiakekaaa.El Go.Proofs.Ytjhdepbiakekaaa.St Go.Proofs.Ytjhdepbiakekaaa.Cb
set_option linter.unusedVariables false
set_option linter.unusedSimpArgs false

def nz (l : List (List UInt8)) : List (List UInt8) := l.filter (fun s => !s.isEmpty)
abbrev tV (a b c : ByteArray) : Array Value := #[.string a, .string b, .string c]
theorem infoX : (Try.prog.info? 37).map (·.size) = some 3 := by kernel_rfl
theorem ix0 (a b c : ByteArray) (w : World) : (Instr.index 37 (.agg (tV a b c)) (.int .i64 0)).run Try.prog w = .ok (.string a) w := by kernel_rfl
theorem ix1 (a b c : ByteArray) (w : World) : (Instr.index 37 (.agg (tV a b c)) (.int .i64 1)).run Try.prog w = .ok (.string b) w := by kernel_rfl
theorem ix2 (a b c : ByteArray) (w : World) : (Instr.index 37 (.agg (tV a b c)) (.int .i64 2)).run Try.prog w = .ok (.string c) w := by kernel_rfl
theorem ix3 (a b c : List UInt8) (i : Nat) (h : i < 3) (w : World) : (Instr.index 37 (.agg (tV (str a) (str b) (str c))) (.int .i64 (i : Int))).run Try.prog w = .ok (.string (str ([a, b, c].getD i []))) w := by
  match i, h with
  | 0, _ => exact ix0 _ _ _ w
  | 1, _ => exact ix1 _ _ _ w
  | 2, _ => exact ix2 _ _ _ w
theorem nz_yes {l : List (List UInt8)} {i : Nat} {s : List UInt8} (h : i < l.length) (hs : l.getD i [] = s) (hn : s ≠ []) : nz (l.take i) ++ [s] = nz (l.take (i + 1)) := by
  rw [List.getD_eq_getElem?_getD, List.getElem?_eq_getElem h] at hs
  unfold nz
  rw [List.take_add_one, List.getElem?_eq_getElem h, List.filter_append]
  simp only [Option.getD_some] at hs
  subst hs
  simp [hn]
theorem nz_no {l : List (List UInt8)} {i : Nat} (h : i < l.length) (hs : l.getD i [] = []) : nz (l.take (i + 1)) = nz (l.take i) := by
  rw [List.getD_eq_getElem?_getD, List.getElem?_eq_getElem h] at hs
  unfold nz
  rw [List.take_add_one, List.getElem?_eq_getElem h, List.filter_append]
  simp only [Option.getD_some] at hs
  rw [hs]
  simp
theorem nz_len (l : List (List UInt8)) (i : Nat) : (nz (l.take i)).length ≤ l.length := by
  unfold nz
  exact Nat.le_trans (List.length_filter_le _ _) (by rw [List.length_take]; omega)
set_option maxRecDepth 100000 in
set_option maxHeartbeats 1000000 in
theorem present_any (c0 c1 c2 : List UInt8) (w : World) : Calls Try.prog 18 #[.agg (tV (str c0) (str c1) (str c2))] w fun e w' => STold w (nz [c0, c1, c2]) e w' := by
  have hix := Hid.mk' (ix3 c0 c1 c2)
  obtain ⟨s0, h0⟩ : ∃ s, str c0 = s := ⟨_, rfl⟩
  obtain ⟨s1, h1⟩ : ∃ s, str c1 = s := ⟨_, rfl⟩
  obtain ⟨s2, h2⟩ : ∃ s, str c2 = s := ⟨_, rfl⟩
  rw [h0, h1, h2] at hix
  rw [h0, h1, h2]
  clear h0 h1 h2
  obtain ⟨l, hl⟩ : ∃ l, Hid ([c0, c1, c2] = l) := ⟨_, Hid.mk' rfl⟩
  rw [hl.out] at hix
  rw [hl.out]
  have hl3 : Hid (l.length = 3) := Hid.mk' (by rw [← hl.out]; rfl)
  clear hl
  go_enter Try.func18, Try.ntmps18
  go_wp2_with (first
    | (refine wpList_boxC _ rfl 37 _ rfl (tV s0 s1 s2) rfl ?_; intro w1 ca1 hg1)
    | (refine wpList_loadC _ rfl 37 _ rfl _ Try.underlying37 rfl w.heap.size (tV s0 s1 s2) infoX rfl ca1 ?_))
  have hG1 := Hid.mk' hg1
  clear ca1 hg1
  go_loopw [3, 7] (fun t3 t7 wx => ∃ (i : Nat) (ao : Option Addr) (cap : Nat), i ≤ 3 ∧ t7 = .int .i64 (i : Int) ∧ t3 = .slice ao (nz (l.take i)).length cap ∧ Hid (StE.Own wx ao cap (nz (l.take i))) ∧ Hid (∀ g, blk ao = some g → w.heap.size ≤ g) ∧ Hid (w.grownBy wx none)) (fun _ t7 _ => 3 - (intOf t7).toNat)
  case atStart => exact ⟨0, none, 0, by omega, rfl, rfl, Hid.mk' (.inl ⟨rfl, rfl, rfl⟩), Hid.mk' (by simp [blk]), hG1⟩
  case round =>
    obtain ⟨i, ao, cap, hi, rfl, rfl, ho, hb, hG⟩ := hrel
    have hal := Hid.mk' (nz_len l i)
    obtain ⟨A, hA⟩ : ∃ A, Hid (nz (l.take i) = A) := ⟨_, Hid.mk' rfl⟩
    rw [hA.out] at ho hal
    rw [hA.out]
    by_cases hlt : i < 3
    · have hlt' : (i : Int) < 3 := by omega
      have hil : i < l.length := by rw [hl3.out]; exact hlt
      obtain ⟨s, hs⟩ : ∃ s, Hid (l.getD i [] = s) := ⟨_, Hid.mk' rfl⟩
      have hq := hix.out i hlt
      rw [hs.out] at hq
      by_cases hn : s = []
      · subst hn
        have hno := Hid.mk' (nz_no hil hs.out)
        have e0 : str [] = ⟨#[]⟩ := rfl
        rw [e0] at hq
        clear hs hil
        go_wp2
        go_roundw
        case rel => exact ⟨i + 1, ao, cap, by omega, by go_num, by rw [hno.out, hA.out], Hid.mk' (by rw [hno.out, hA.out]; exact ho.out), hb, hG⟩
        all_goals (simp [intOf]; omega)
      · have hst : Hid (A ++ [s] = nz (l.take (i + 1))) := Hid.mk' (by rw [← hA.out]; exact nz_yes hil hs.out hn)
        obtain ⟨A2, hA2⟩ : ∃ A2, Hid (nz (l.take (i + 1)) = A2) := ⟨_, Hid.mk' rfl⟩
        rw [hA2.out] at hst
        have hse : (str s).toList.isEmpty = false := by
          rw [str_toList]
          cases s with
          | nil => exact absurd rfl hn
          | cons a b => rfl
        clear hs hil hn
        go_wp2_with (at_builtin; refine wpList_strs _ rfl _ _ rfl ao cap A rfl (ho.out.alloc _) _ rfl [s] (src_strs (own_lit _ _ [s] rfl (by simp)).rd 1) (by have := hal.out; rw [hl3.out] at this; simp; omega) A2 hst.out ?_; intro a2 c2 w2 o2 g2 f2)
        go_roundw
        case rel =>
          have q1 : w.grownBy (wr.alloc (.cells #[.string (str s)] 9)) none := gt hG.out (World.grownBy_alloc _ _ _)
          refine ⟨i + 1, a2, c2, by omega, by go_num, hA2.out ▸ rfl, Hid.mk' (hA2.out ▸ o2), Hid.mk' (fun g hg => ?_), Hid.mk' (grownBy_new q1 g2 (fun g hg => hb.out g hg))⟩
          rcases f2 with rfl | rfl
          · exact hb.out g hg
          · simp [blk] at hg; have := hG.out.size; omega
        all_goals (simp [intOf]; omega)
    · obtain rfl : i = 3 := by omega
      have e3 : nz (l.take 3) = nz l := by rw [List.take_of_length_le (by rw [hl3.out]; exact Nat.le_refl _)]
      have hA3 : Hid (A = nz l) := Hid.mk' (by rw [← hA.out, e3])
      clear e3 hA hal hix
      go_wp2
      go_ret
      exact ⟨ao, cap, by rw [hA3.out]; rfl, by rw [← hA3.out]; exact ho.out, hG.out, hb.out⟩
end Go.Proofs.Ytjhdepbiakekaaa.C22
