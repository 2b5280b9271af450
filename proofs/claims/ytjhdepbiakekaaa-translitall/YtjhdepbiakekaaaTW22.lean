/- What the laws of layer 22 want of the program; works, TranslitFirst, TranslitWide, TranslitTells: walks. -/
import Derived.Test.YtjhdepbiakekaaaTA22
import Derived.Test.YtjhdepbiakekaaaTF22
import Derived.WalkSpells
import Derived.WalkLawsBesides
namespace Go.Proofs.Ytjhdepbiakekaaa.C22
open Go.ChangeShapes Go.WideShapes Go.ChangeAt Go.RowKit Go.Proofs.Ytjhdepbiakekaaa.Mem Go.Proofs.Ytjhdepbiakekaaa.El Go.Proofs.Ytjhdepbiakekaaa.St Go.Proofs.Ytjhdepbiakekaaa.Ru Go.Proofs.Ytjhdepbiakekaaa.Cb Go.Proofs.Ytjhdepbiakekaaa.Sp
set_option linter.unusedVariables false
set_option linter.unusedSimpArgs false

def I32 (k : Int) : Prop := -2147483648 ≤ k ∧ k ≤ 2147483647
def fstV (u : Int) (L : List UInt8) : Option (List UInt8) := fstP (cands u) (dec L)
structure Con (P : World → Prop) : Prop where
  keep : ∀ {w w' : World}, P w → w.grownBy w' none → P w'
  cand : ∀ (u : Int) (hu : I32 u) (w : World), P w → Calls Try.prog 8 #[.int .i32 u] w fun e w' => STold w (cands u) e w'
  all : ∀ (w : World), P w → Calls Try.prog 13 #[] w fun e w' => ∃ ao cap, e = .returned (.slice ao 212 cap) ∧ RuE.Own w' ao cap allI ∧ w.grownBy w' none ∧ ∀ g, blk ao = some g → w.heap.size ≤ g
  first : ∀ (u : Int) (hu : I32 u) (L : List UInt8) (hl : L.length ≤ 300) (w : World), P w → Calls Try.prog 10 #[.int .i32 u, .string (str L)] w fun e w' => e = .returned (.tuple #[.string (str ((fstV u L).getD [])), .bool (fstV u L).isSome]) ∧ w.grownBy w' none
theorem tab_low : ∀ p ∈ tab, 128 ≤ p.1 := by decide +kernel
theorem cands_low {u : Int} (h : 0 ≤ u) (h1 : u < 128) : cands u = [] := cands_none (by omega) (fun p hp e => by have := tab_low p hp; omega)
theorem w1 : cands 8364 = [[69, 85, 82], [69]] := by decide +kernel
theorem w2 : cands 97 = [] := by decide +kernel
theorem w3 : fstV 8364 [69, 82] = some [69] := by decide +kernel
set_option maxRecDepth 100000 in
set_option maxHeartbeats 1000000 in
theorem works_any {P : World → Prop} (C : Con P) (w : World) (hw : P w) : Calls Try.prog 12 #[] w fun e w' => e = .returned (.bool true) ∧ w.grownBy w' none := by
  have a1 : Hid (∀ w, P w → Calls Try.prog 8 #[.int .i32 8364] w fun e w' => ∃ g cap, e = .returned (.slice (some ⟨g, 0, none⟩) 2 cap) ∧ (∀ wx, w'.grownBy wx none → wx.cell? ⟨g, 0, none⟩ = some (.string ⟨#[69, 85, 82]⟩)) ∧ w.grownBy w' none ∧ 2 ≤ cap ∧ cap ≤ 9223372036854775807) := Hid.mk' (fun w hw => (C.cand 8364 (by unfold I32; omega) w hw).mono (fun e w' h => by
    rw [w1] at h
    obtain ⟨ao, cap, h1, h2, h3, h4⟩ := h
    obtain ⟨g, rfl, hg, hf, hc⟩ := h2.at (by simp)
    exact ⟨g, cap, h1, fun wx hgx => hgx.cell (hc 0 (by simp) 0 _ rfl) (by simp), h3, h2.cap_le, h2.cap_max⟩))
  have a2 : Hid (∀ w, P w → Calls Try.prog 10 #[.int .i32 8364, .string ⟨#[69, 82]⟩] w fun e w' => e = .returned (.tuple #[.string ⟨#[69]⟩, .bool true]) ∧ w.grownBy w' none) := Hid.mk' (fun w hw => by
    have h := C.first 8364 (by unfold I32; omega) [69, 82] (by simp) w hw
    rw [w3] at h
    exact h)
  have a3 : Hid (∀ w, P w → Calls Try.prog 8 #[.int .i32 97] w fun e w' => ∃ ao cap, e = .returned (.slice ao 0 cap) ∧ w.grownBy w' none) := Hid.mk' (fun w hw => (C.cand 97 (by unfold I32; omega) w hw).mono (fun e w' h => by
    rw [w2] at h
    obtain ⟨ao, cap, h1, h2, h3, h4⟩ := h
    exact ⟨ao, cap, h1, h3⟩))
  have K := Hid.mk' (fun (a b : World) (h : P a) (g : a.grownBy b none) => C.keep h g)
  have hq := Hid.mk' hw
  clear C hw
  go_enter Try.func12, Try.ntmps12
  go_upto_region 3 with (first
    | (go_at_call 8; refine (a1.out _ hq.out).mono ?_; rintro e w1 ⟨g, cap, rfl, hc, hg1, l1, l2⟩; have hP1 := Hid.mk' (K.out _ _ hq.out hg1))
    | (go_at_call 10; refine (a2.out _ hP1.out).mono ?_; rintro e w2 ⟨rfl, hg2⟩; have hP2 := Hid.mk' (K.out _ _ hP1.out hg2)))
  have x0 := hc _ hg2
  clear hc
  go_wp2_with (go_at_call 8; refine (a3.out _ hP2.out).mono ?_; rintro e w3 ⟨ao, cap3, rfl, hg3⟩)
  go_ret
  exact ⟨rfl, gt hg1 (gt hg2 hg3)⟩
set_option maxRecDepth 100000 in
set_option maxHeartbeats 1000000 in
theorem first_walk {P : World → Prop} (C : Con P) (u : Int) (hu : I32 u) (s : List UInt8) (w : World) (hw : P w) : Calls Try.prog 4 #[.int .i32 u, .string (str s)] w fun e w' => e = .returned (.bool true) ∧ w.grownBy w' none := by
  have hsz : (str s).size = s.length := str_size s
  by_cases hl : 300 < s.length
  · have hl' : (300 : Int) < (s.length : Int) := by omega
    go_enter Try.func4, Try.ntmps4
    go_wp2
    go_ret
    exact ⟨rfl, grownBy_refl _ _⟩
  · have hl' : ¬ (300 : Int) < (s.length : Int) := by omega
    obtain ⟨F, hF⟩ : ∃ F, Hid (fstV u s = F) := ⟨_, Hid.mk' rfl⟩
    have a1 := Hid.mk' (fun w hw => C.first u hu s (by omega) w hw)
    have a2 := Hid.mk' (fun w => first_any u s (by omega) w _ (Hid.mk' rfl) _ (Hid.mk' rfl) F hF)
    rw [hF.out] at a1
    have K := Hid.mk' (fun (a b : World) (h : P a) (g : a.grownBy b none) => C.keep h g)
    have hq := Hid.mk' hw
    obtain ⟨fs, hfs⟩ : ∃ x, str (F.getD []) = x := ⟨_, rfl⟩
    obtain ⟨fb, hfb⟩ : ∃ x, F.isSome = x := ⟨_, rfl⟩
    rw [hfs, hfb] at a1 a2
    clear C hw hF hfs hfb
    cases fb <;>
    · go_enter Try.func4, Try.ntmps4
      go_wp2_with (first
        | (go_at_call 10; refine (a1.out _ hq.out).mono ?_; rintro e w1 ⟨rfl, hg1⟩)
        | (go_at_call 11; refine (a2.out _).mono ?_; rintro e w2 ⟨rfl, hg2⟩))
      go_ret
      exact ⟨rfl, gt hg1 hg2⟩
set_option maxRecDepth 100000 in
set_option maxHeartbeats 1000000 in
theorem wide_yes {P : World → Prop} (C : Con P) (u : Int) (hu : I32 u) (n : Nat) (h1 : 33 ≤ n) (h2 : n ≤ 126) (hn : u - 65248 = (n : Int)) (w : World) (hw : P w) : Calls Try.prog 7 #[.int .i32 u] w fun e w' => e = .returned (.bool true) ∧ w.grownBy w' none := by
  have d1 : decide (65281 ≤ u) = true := by simp; omega
  have d2 : decide (u ≤ 65374) = true := by simp; omega
  have d3 : wrap32 (u - 65248) = (n : Int) := by unfold wrap32; omega
  have hnn : (u - 65248).toNat = n := by omega
  have a0 := Hid.mk' (fun w hw => works_any C w hw)
  have a1 := Hid.mk' (fun w hw => C.cand u hu w hw)
  have K := Hid.mk' (fun (a b : World) (h : P a) (g : a.grownBy b none) => C.keep h g)
  have hq := Hid.mk' hw
  rw [cands_wide (u := u) (by omega), hnn] at a1
  clear C hw
  go_enter Try.func7, Try.ntmps7
  go_upto_region 3 with (go_at_call 12; refine (a0.out _ hq.out).mono ?_; rintro e w1 ⟨rfl, hg1⟩; have hP1 := Hid.mk' (K.out _ _ hq.out hg1))
  go_upto_region 4 with (go_at_call 8; refine (a1.out _ hP1.out).mono ?_; rintro e w2 ⟨ao, cap, rfl, ho, hg2, hf2⟩)
  obtain ⟨g, rfl, hg, hf, hc⟩ := ho.at (by simp)
  have q1 := ho.cap_le
  have q2 := ho.cap_max
  have x0 : w2.cell? ⟨g, 0, none⟩ = some (.string (str [UInt8.ofNat n])) := hc 0 (by simp) 0 _ rfl
  have s0 : (str [UInt8.ofNat n]).size = 1 := rfl
  have s1 : (str [UInt8.ofNat n]).get! 0 = UInt8.ofNat n := rfl
  have s2 : (UInt8.ofNat n).toNat = n := by rw [UInt8.toNat_ofNat']; omega
  have s3 : IntKind.i32.wrap (n : Int) = (n : Int) := by rw [IntKind.wrap_i32]; omega
  have hb : (wrap32 ((UInt8.ofNat n).toNat : Int) == (n : Int)) = true := by
    rw [s2]
    have e : wrap32 (n : Int) = (n : Int) := by unfold wrap32; omega
    rw [e]
    simp
  clear hc hf ho
  go_wp2
  go_ret
  exact ⟨congrArg (fun b => Ending.returned (Value.bool b)) hb, gt hg1 hg2⟩
set_option maxRecDepth 100000 in
set_option maxHeartbeats 1000000 in
theorem wide_neg {P : World → Prop} (C : Con P) (u : Int) (hu : I32 u) (h : u < 0) (w : World) (hw : P w) : Calls Try.prog 7 #[.int .i32 u] w fun e w' => e = .returned (.bool true) ∧ w.grownBy w' none := by
  have d0 : decide (65281 ≤ u) = false := by simp; omega
  have d1 : decide (u < 0) = true := by simp; omega
  have a0 := Hid.mk' (fun w hw => works_any C w hw)
  have a1 := Hid.mk' (fun w hw => C.cand u hu w hw)
  have K := Hid.mk' (fun (a b : World) (h : P a) (g : a.grownBy b none) => C.keep h g)
  have hq := Hid.mk' hw
  clear C hw
  go_enter Try.func7, Try.ntmps7
  go_upto_region 3 with (go_at_call 12; refine (a0.out _ hq.out).mono ?_; rintro e w1 ⟨rfl, hg1⟩; have hP1 := Hid.mk' (K.out _ _ hq.out hg1))
  go_upto_region 4 with (go_at_call 8; refine (a1.out _ hP1.out).mono ?_; rintro e w2 ⟨ao, cap, rfl, ho, hg2, hf2⟩)
  go_wp2
  go_ret
  exact ⟨rfl, gt hg1 hg2⟩
set_option maxRecDepth 100000 in
set_option maxHeartbeats 1000000 in
theorem wide_hi {P : World → Prop} (C : Con P) (u : Int) (hu : I32 u) (h : 128 ≤ u) (h1 : u < 65281) (w : World) (hw : P w) : Calls Try.prog 7 #[.int .i32 u] w fun e w' => e = .returned (.bool true) ∧ w.grownBy w' none := by
  have d0 : decide (65281 ≤ u) = false := by simp; omega
  have d1 : decide (u < 0) = false := by simp; omega
  have d2 : decide (128 ≤ u) = true := by simp; omega
  have a0 := Hid.mk' (fun w hw => works_any C w hw)
  have a1 := Hid.mk' (fun w hw => C.cand u hu w hw)
  have K := Hid.mk' (fun (a b : World) (h : P a) (g : a.grownBy b none) => C.keep h g)
  have hq := Hid.mk' hw
  clear C hw
  go_enter Try.func7, Try.ntmps7
  go_upto_region 3 with (go_at_call 12; refine (a0.out _ hq.out).mono ?_; rintro e w1 ⟨rfl, hg1⟩; have hP1 := Hid.mk' (K.out _ _ hq.out hg1))
  go_upto_region 4 with (go_at_call 8; refine (a1.out _ hP1.out).mono ?_; rintro e w2 ⟨ao, cap, rfl, ho, hg2, hf2⟩)
  go_wp2
  go_ret
  exact ⟨rfl, gt hg1 hg2⟩
set_option maxRecDepth 100000 in
set_option maxHeartbeats 1000000 in
theorem wide_up {P : World → Prop} (C : Con P) (u : Int) (hu : I32 u) (h : 65374 < u) (w : World) (hw : P w) : Calls Try.prog 7 #[.int .i32 u] w fun e w' => e = .returned (.bool true) ∧ w.grownBy w' none := by
  have d0 : decide (65281 ≤ u) = true := by simp; omega
  have d1 : decide (u ≤ 65374) = false := by simp; omega
  have d2 : decide (u < 0) = false := by simp; omega
  have d3 : decide (128 ≤ u) = true := by simp; omega
  have a0 := Hid.mk' (fun w hw => works_any C w hw)
  have a1 := Hid.mk' (fun w hw => C.cand u hu w hw)
  have K := Hid.mk' (fun (a b : World) (h : P a) (g : a.grownBy b none) => C.keep h g)
  have hq := Hid.mk' hw
  clear C hw
  go_enter Try.func7, Try.ntmps7
  go_upto_region 3 with (go_at_call 12; refine (a0.out _ hq.out).mono ?_; rintro e w1 ⟨rfl, hg1⟩; have hP1 := Hid.mk' (K.out _ _ hq.out hg1))
  go_upto_region 4 with (go_at_call 8; refine (a1.out _ hP1.out).mono ?_; rintro e w2 ⟨ao, cap, rfl, ho, hg2, hf2⟩)
  go_wp2
  go_ret
  exact ⟨rfl, gt hg1 hg2⟩
set_option maxRecDepth 100000 in
set_option maxHeartbeats 1000000 in
theorem wide_low {P : World → Prop} (C : Con P) (u : Int) (hu : I32 u) (h : 0 ≤ u) (h1 : u < 128) (w : World) (hw : P w) : Calls Try.prog 7 #[.int .i32 u] w fun e w' => e = .returned (.bool true) ∧ w.grownBy w' none := by
  have d0 : decide (65281 ≤ u) = false := by simp; omega
  have d1 : decide (u < 0) = false := by simp; omega
  have d2 : decide (128 ≤ u) = false := by simp; omega
  have a0 := Hid.mk' (fun w hw => works_any C w hw)
  have a1 := Hid.mk' (fun w hw => C.cand u hu w hw)
  have K := Hid.mk' (fun (a b : World) (h : P a) (g : a.grownBy b none) => C.keep h g)
  have hq := Hid.mk' hw
  rw [cands_low h h1] at a1
  clear C hw
  go_enter Try.func7, Try.ntmps7
  go_upto_region 3 with (go_at_call 12; refine (a0.out _ hq.out).mono ?_; rintro e w1 ⟨rfl, hg1⟩; have hP1 := Hid.mk' (K.out _ _ hq.out hg1))
  go_upto_region 4 with (go_at_call 8; refine (a1.out _ hP1.out).mono ?_; rintro e w2 ⟨ao, cap, rfl, ho, hg2, hf2⟩)
  go_wp2
  go_ret
  exact ⟨rfl, gt hg1 hg2⟩
theorem wide_walk {P : World → Prop} (C : Con P) (u : Int) (hu : I32 u) (w : World) (hw : P w) : Calls Try.prog 7 #[.int .i32 u] w fun e w' => e = .returned (.bool true) ∧ w.grownBy w' none := by
  by_cases h1 : u < 0
  · exact wide_neg C u hu h1 w hw
  · by_cases h2 : u < 128
    · exact wide_low C u hu (by omega) h2 w hw
    · by_cases h3 : u < 65281
      · exact wide_hi C u hu (by omega) h3 w hw
      · by_cases h4 : 65374 < u
        · exact wide_up C u hu h4 w hw
        · exact wide_yes C u hu (u - 65248).toNat (by omega) (by omega) (by omega) w hw
set_option maxRecDepth 100000 in
set_option maxHeartbeats 2000000 in
theorem tells_walk {P : World → Prop} (C : Con P) (u : Int) (hu : I32 u) (w : World) (hw : P w) : Calls Try.prog 3 #[.int .i32 u] w fun e w' => e = .returned (.bool true) ∧ w.grownBy w' none := by
  obtain ⟨T, hT⟩ : ∃ T, Hid (cands u = T) := ⟨_, Hid.mk' rfl⟩
  have a1 := Hid.mk' (fun w hw => C.cand u hu w hw)
  have a2 := Hid.mk' (cand_any u)
  rw [hT.out] at a1 a2
  have hTl : T.length ≤ 3 := by rw [← hT.out]; exact (cands_short u).1
  have K := Hid.mk' (fun (a b : World) (h : P a) (g : a.grownBy b none) => C.keep h g)
  have hq := Hid.mk' hw
  clear C hw hT
  go_enter Try.func3, Try.ntmps3
  go_upto_region 5 with (first
    | (go_at_call 8; refine (a1.out _ hq.out).mono ?_; rintro e w1 ⟨ao, ca, rfl, oA, hg1, fA⟩)
    | (go_at_call 9; refine (a2.out _).mono ?_; rintro e w2 ⟨bo, cb, rfl, oB, hg2, fB⟩))
  have oA2 := Hid.mk' (oA.kept0 hg2)
  have rB := Hid.mk' oB.rd
  have hne : Hid (blk bo = none ∨ blk bo ≠ blk ao) := Hid.mk' (by
    cases hb : blk bo with
    | none => exact .inl rfl
    | some q =>
      refine .inr (fun e => ?_)
      have h1 := fB q hb
      have h2 := oA.lt e.symm
      omega)
  have hG2 := Hid.mk' (gt hg1 hg2)
  have fA2 := Hid.mk' fA
  have q1 := oA.cap_le
  have q2 := oA.cap_max
  have q3 := oB.cap_le
  have q4 := oB.cap_max
  clear oA oB hg1 hg2 fA fB
  go_loopw [5] (fun t5 wx => ∃ (i : Nat) (X : List (List UInt8)), i ≤ T.length ∧ t5 = .int .i64 (i : Int) ∧ Hid (StE.Own wx ao ca X) ∧ Hid (X.length = T.length ∧ ∀ j (h : j < T.length), i ≤ j → X[j]? = some T[j]) ∧ Hid (w2.grownBy wx (blk ao))) (fun t5 _ => T.length - (intOf t5).toNat)
  case atStart => exact ⟨0, T, by omega, rfl, oA2, Hid.mk' ⟨rfl, fun j h _ => List.getElem?_eq_getElem h⟩, Hid.mk' (grownBy_refl _ _)⟩
  case round =>
    obtain ⟨i, X, hi, rfl, oX, hX, hg3⟩ := hrel
    by_cases hlt : i < T.length
    · have hiX : i < X.length := by rw [hX.out.1]; exact hlt
      have hXi : Hid (X[i] = T[i]) := Hid.mk' (by have := hX.out.2 i hlt (Nat.le_refl _); rw [List.getElem?_eq_getElem hiX] at this; exact Option.some.inj this)
      obtain ⟨g, rfl, hgl, hfr, hcl⟩ := oX.out.at (List.ne_nil_of_length_pos (by omega))
      have x0 : wr.cell? ⟨g, i, none⟩ = some (.string (str T[i])) := by
        have := hcl i hiX 0 _ rfl
        have e : i * StE.size + 0 = i := Nat.mul_one i
        rw [e, hXi.out] at this
        exact this
      have z0 := hfr i
      obtain ⟨b, o, rfl, hb, y0⟩ := stcell (rB.out.kept hg3.out hne.out) hlt
      have hgb : Hid (¬ b = g) := Hid.mk' (by rcases hne.out with h | h; simp [blk] at h; simpa [blk] using h)
      have hlt' : (i : Int) < (T.length : Int) := by omega
      have hi0 : (0 : Int) ≤ (i : Int) := by omega
      obtain ⟨s, hs⟩ : ∃ s, Hid (str T[i] = s) := ⟨_, Hid.mk' rfl⟩
      rw [hs.out] at x0 y0
      clear hcl hfr hXi
      go_wp2
      go_quiet (fail)
      go_wp2
      go_roundw
      case rel =>
        refine ⟨i + 1, X.set i [115, 112, 111, 105, 108, 116], by omega, by go_num, Hid.mk' ?_, Hid.mk' ⟨?_, ?_⟩, Hid.mk' ?_⟩
        · have h1 := (oX.out.kept0 (show wr.grownBy (wr.drewN nq) none from ⟨rfl, rfl, rfl, Nat.le_refl _, fun _ _ _ => rfl⟩)).set i hiX 0 (by decide) (.string (str [115, 112, 111, 105, 108, 116])) [115, 112, 111, 105, 108, 116] rfl
          have e : i * StE.size + 0 = i := Nat.mul_one i
          rw [e] at h1
          exact h1
        · rw [List.length_set]; exact hX.out.1
        · intro j hj hij
          rw [List.getElem?_set_ne (by omega)]
          exact hX.out.2 j hj (by omega)
        · exact gt hg3.out (gt (show wr.grownBy (wr.drewN nq) _ from ⟨rfl, rfl, rfl, Nat.le_refl _, fun _ _ _ => rfl⟩) (grownBy_setCell _ _ _))
      all_goals (simp [intOf]; omega)
    · obtain rfl : i = T.length := by omega
      have hG3 : Hid (w.grownBy wr none) := Hid.mk' (grownBy_new hG2.out hg3.out (fun g hg => fA2.out g hg))
      have hP3 := Hid.mk' (K.out _ _ hq.out hG3.out)
      have rB3 := Hid.mk' (rB.out.kept hg3.out hne.out)
      go_upto_region 12 with (go_at_call 8; refine (a1.out _ hP3.out).mono ?_; rintro e w4 ⟨co, cc, rfl, oC, hg4, fC⟩)
      have rC := Hid.mk' oC.rd
      have rB4 := Hid.mk' (rB3.out.kept0 hg4)
      have hG4 := Hid.mk' (gt hG3.out hg4)
      have q5 := oC.cap_le
      have q6 := oC.cap_max
      clear oC hg4 fC oX hX hg3 rB3
      go_loopw [7] (fun t7 wx => ∃ (j : Nat), j ≤ T.length ∧ t7 = .int .i64 (j : Int) ∧ Hid (w4.grownBy wx none)) (fun t7 _ => T.length - (intOf t7).toNat)
      case atStart => exact ⟨0, by omega, rfl, Hid.mk' (grownBy_refl _ _)⟩
      case round =>
        obtain ⟨j, hj, rfl, hg5⟩ := hrel
        by_cases hjl : j < T.length
        · obtain ⟨b, o, rfl, hb, y0⟩ := stcell (rB4.out.kept0 hg5.out) hjl
          obtain ⟨c, o2, rfl, hc, x0⟩ := stcell (rC.out.kept0 hg5.out) hjl
          have hlt' : (j : Int) < (T.length : Int) := by omega
          have hi0 : (0 : Int) ≤ (j : Int) := by omega
          obtain ⟨s, hs⟩ : ∃ s, Hid (str T[j] = s) := ⟨_, Hid.mk' rfl⟩
          rw [hs.out] at x0 y0
          go_wp2
          go_quiet (fail)
          go_wp2
          go_roundw
          case rel => exact ⟨j + 1, by omega, by go_num, Hid.mk' (gt hg5.out ⟨rfl, rfl, rfl, Nat.le_refl _, fun _ _ _ => rfl⟩)⟩
          all_goals (simp [intOf]; omega)
        · obtain rfl : j = T.length := by omega
          go_wp2
          go_ret
          exact ⟨rfl, gt hG4.out hg5.out⟩
end Go.Proofs.Ytjhdepbiakekaaa.C22
