/- JohabPacks, and the law's own 'works' of layer 19: walks. -/
import Derived.Test.YtdphkpjamclhjaaEW19
namespace Go.Proofs.Ytdphkpjamclhjaa.C19
open Go.ChangeShapes Go.WideShapes Go.ChangeAt Go.RowKit Go.Proofs.Ytdphkpjamclhjaa.Mem Go.Proofs.Ytdphkpjamclhjaa.Cb Go.Proofs.Ytdphkpjamclhjaa.Sp
set_option linter.unusedVariables false
set_option linter.unusedSimpArgs false

theorem ge_a : gE [211, 189] = (0, 2, 1, 55203) := by decide +kernel
theorem ge_b : gE [136, 96] = (10, 2, 0, 0) := by decide +kernel
theorem se_a : sE 44032 = (0, [136, 97]) := by decide +kernel
set_option maxRecDepth 100000 in
set_option maxHeartbeats 2000000 in
theorem works_any {P : World → Prop} (C : Con P) (w : World) (hw : P w) : Calls Try.prog 17 #[] w fun e w' => e = .returned (.bool true) ∧ w.grownBy w' none ∧ P w' := by
  have K := Hid.mk' (fun (a b : World) (h : P a) (g : a.grownBy b none) => C.keep h g)
  have hq := Hid.mk' hw
  have a1 : Hid (∀ w, P w → Calls Try.prog 9 #[.slice (some ⟨w.heap.size, 0, none⟩) 2 2] (w.alloc (.cells #[.int .u8 211, .int .u8 189] 5)) fun e w' => e = .returned (gV 0 2 1 55203) ∧ w.grownBy w' none) := Hid.mk' (fun w hw =>
    ((C.got [211, 189] _ _ _ _ ge_a).out 2 rfl (some ⟨w.heap.size, 0, none⟩) 2 _ (bytes_two (x := 211) (y := 189) (by omega) (by omega) w (0, 0)) (by omega) (by omega) (C.keep hw (World.grownBy_alloc w _ none))).mono (fun e w' h => ⟨h.1, gt (World.grownBy_alloc _ _ _) h.2⟩))
  have a3 : Hid (∀ w, P w → Calls Try.prog 9 #[.slice (some ⟨w.heap.size, 0, none⟩) 2 2] (w.alloc (.cells #[.int .u8 136, .int .u8 96] 5)) fun e w' => e = .returned (gV 10 2 0 0) ∧ w.grownBy w' none) := Hid.mk' (fun w hw =>
    ((C.got [136, 96] _ _ _ _ ge_b).out 2 rfl (some ⟨w.heap.size, 0, none⟩) 2 _ (bytes_two (x := 136) (y := 96) (by omega) (by omega) w (0, 0)) (by omega) (by omega) (C.keep hw (World.grownBy_alloc w _ none))).mono (fun e w' h => ⟨h.1, gt (World.grownBy_alloc _ _ _) h.2⟩))
  have a2 : Hid (∀ w, P w → Calls Try.prog 11 #[.int .i32 44032] w fun e w' => e = .returned (pV 0 ⟨#[136, 97]⟩) ∧ w.grownBy w' none) := C.put 44032 (by unfold I32; omega) _ _ se_a
  clear hw C
  go_enter Try.func17, Try.ntmps17
  go_wp2_with (first
    | (go_at_call 11; refine (a2.out _ hq.out).mono ?_; rintro e w1 ⟨rfl, hg1⟩; have hq1 := Hid.mk' (K.out _ _ hq.out hg1))
    | (go_at_call_of 9 (Value.slice (some ⟨w1.heap.size, 0, none⟩) 2 2); refine (a1.out w1 hq1.out).mono ?_; rintro e w2 ⟨rfl, hg2⟩; have hq2 := Hid.mk' (K.out _ _ hq1.out hg2))
    | (go_at_call_of 9 (Value.slice (some ⟨w2.heap.size, 0, none⟩) 2 2); refine (a3.out w2 hq2.out).mono ?_; rintro e w3 ⟨rfl, hg3⟩; have hq3 := Hid.mk' (K.out _ _ hq2.out hg3)))
  go_ret
  exact ⟨rfl, gt (gt hg1 hg2) hg3, hq3.out⟩
theorem pk_zero : pkT 0 0 0 = (34913, true) := by decide +kernel
theorem pk_up {f m l c : Int} (h : pkT f m l = (c, true)) : upT c = (f, m, l, true) ∧ 0 ≤ c ∧ c ≤ 65535 := by
  unfold pkT at h
  split at h
  · rename_i hi
    obtain ⟨a, b, d, rfl, rfl, rfl, k1, k2, k3⟩ := in3_nat hi
    simp only [Prod.mk.injEq, Int.toNat_natCast] at h
    obtain ⟨rfl, _⟩ := h
    have := code_lt k1 k2 k3
    exact ⟨up_of k1 k2 k3, by omega, by omega⟩
  · have : false = true := congrArg Prod.snd h
    cases this
theorem up_pk {c x y z : Int} (h : upT c = (x, y, z, true)) : pkT x y z = (c, true) ∧ C16.In3 x y z := by
  obtain ⟨a, b, d, rfl, rfl, rfl, k1, k2, k3, rfl⟩ := of_up h
  have hi := nat_in3 k1 k2 k3
  refine ⟨?_, hi⟩
  unfold pkT
  rw [if_pos hi, Int.toNat_natCast, Int.toNat_natCast, Int.toNat_natCast]
set_option maxRecDepth 100000 in
set_option maxHeartbeats 2000000 in
theorem packs_walk {P : World → Prop} (C : Con P) (f m l d : Int) (hf : I64 f) (hm : I64 m) (hl : I64 l) (hd : I64 d) (w : World) (hw : P w) : Calls Try.prog 5 #[.int .i64 f, .int .i64 m, .int .i64 l, .int .i64 d] w fun e w' => e = .returned (.bool true) ∧ w.grownBy w' none := by
  obtain ⟨⟨c, ok⟩, hP⟩ : ∃ p, pkT f m l = p := ⟨_, rfl⟩
  obtain ⟨⟨x, y, z, so⟩, hU⟩ : ∃ p, upT d = p := ⟨_, rfl⟩
  have a1 := Hid.mk' (fun w hw => C.pack f m l hf hm hl c ok (Hid.mk' hP) w hw)
  have a2 := Hid.mk' (fun w => packRef f m l c ok (Hid.mk' hP) w)
  have a3 := Hid.mk' (fun w hw => C.unpack d hd x y z so (Hid.mk' hU) w hw)
  have a4 := Hid.mk' (fun w => unpackRef d x y z so (Hid.mk' hU) w)
  have K := Hid.mk' (fun (a b : World) (h : P a) (g : a.grownBy b none) => C.keep h g)
  have hq := Hid.mk' hw
  have e1 : (c != c) = false := by simp
  have e2 : (x != x) = false := by simp
  have e3 : (y != y) = false := by simp
  have e4 : (z != z) = false := by simp
  have e5 : (f != f) = false := by simp
  have e6 : (m != m) = false := by simp
  have e7 : (l != l) = false := by simp
  have e8 : (d == d) = true := by simp
  have hz : ∃ cz gd, Hid (∀ w, P w → Calls Try.prog 13 #[.int .i64 x, .int .i64 y, .int .i64 z] w fun e w' => e = .returned (.tuple #[.int .i64 cz, .bool gd]) ∧ w.grownBy w' none) ∧ (so = true → cz = d ∧ gd = true) := by
    cases so with
    | true =>
      obtain ⟨k1, k2⟩ := up_pk hU
      obtain ⟨a, b, q, rfl, rfl, rfl, j1, j2, j3⟩ := in3_nat k2
      exact ⟨d, true, Hid.mk' (fun w hw => C.pack _ _ _ (by unfold I64; omega) (by unfold I64; omega) (by unfold I64; omega) _ _ (Hid.mk' k1) w hw), fun _ => ⟨rfl, rfl⟩⟩
    | false =>
      have := up_no (c := d) (by rw [hU])
      rw [hU] at this
      simp only [Prod.mk.injEq] at this
      obtain ⟨rfl, rfl, rfl, _⟩ := this
      exact ⟨34913, true, Hid.mk' (fun w hw => C.pack 0 0 0 (by unfold I64; omega) (by unfold I64; omega) (by unfold I64; omega) _ _ (Hid.mk' pk_zero) w hw), fun h => by cases h⟩
  obtain ⟨cz, gd, a6, hzz⟩ := hz
  cases ok with
  | true =>
    obtain ⟨k1, k2, k3⟩ := pk_up hP
    have a5 := Hid.mk' (fun w hw => C.unpack c (by unfold I64; omega) f m l true (Hid.mk' k1) w hw)
    cases so with
    | true =>
      obtain ⟨rfl, rfl⟩ := hzz rfl
      clear hP hU hf hm hl hd hw C k1 k2 k3 hzz
      go_enter Try.func5, Try.ntmps5
      go_upto_region 8 with (first
        | (go_at_call 13; refine (a1.out _ hq.out).mono ?_; rintro e w1 ⟨rfl, hg1⟩; have hq1 := Hid.mk' (K.out _ _ hq.out hg1))
        | (go_at_call 14; refine (a2.out _).mono ?_; rintro e w2 ⟨rfl, hg2⟩; have hq2 := Hid.mk' (K.out _ _ hq1.out hg2))
        | (go_at_call 15; refine (a3.out _ hq2.out).mono ?_; rintro e w3 ⟨rfl, hg3⟩; have hq3 := Hid.mk' (K.out _ _ hq2.out hg3))
        | (go_at_call 16; refine (a4.out _).mono ?_; rintro e w4 ⟨rfl, hg4⟩; have hq4 := Hid.mk' (K.out _ _ hq3.out hg4)))
      go_wp2_with (first
        | (go_at_call 15; refine (a5.out _ hq4.out).mono ?_; rintro e w5 ⟨rfl, hg5⟩; have hq5 := Hid.mk' (K.out _ _ hq4.out hg5))
        | (go_at_call 13; refine (a6.out _ hq5.out).mono ?_; rintro e w6 ⟨rfl, hg6⟩))
      go_ret
      exact ⟨rfl, gt (gt (gt (gt (gt hg1 hg2) hg3) hg4) hg5) hg6⟩
    | false =>
      clear hP hU hf hm hl hd hw C k1 k2 k3 hzz
      go_enter Try.func5, Try.ntmps5
      go_upto_region 8 with (first
        | (go_at_call 13; refine (a1.out _ hq.out).mono ?_; rintro e w1 ⟨rfl, hg1⟩; have hq1 := Hid.mk' (K.out _ _ hq.out hg1))
        | (go_at_call 14; refine (a2.out _).mono ?_; rintro e w2 ⟨rfl, hg2⟩; have hq2 := Hid.mk' (K.out _ _ hq1.out hg2))
        | (go_at_call 15; refine (a3.out _ hq2.out).mono ?_; rintro e w3 ⟨rfl, hg3⟩; have hq3 := Hid.mk' (K.out _ _ hq2.out hg3))
        | (go_at_call 16; refine (a4.out _).mono ?_; rintro e w4 ⟨rfl, hg4⟩; have hq4 := Hid.mk' (K.out _ _ hq3.out hg4)))
      go_wp2_with (first
        | (go_at_call 15; refine (a5.out _ hq4.out).mono ?_; rintro e w5 ⟨rfl, hg5⟩; have hq5 := Hid.mk' (K.out _ _ hq4.out hg5))
        | (go_at_call 13; refine (a6.out _ hq5.out).mono ?_; rintro e w6 ⟨rfl, hg6⟩))
      go_ret
      exact ⟨rfl, gt (gt (gt (gt (gt hg1 hg2) hg3) hg4) hg5) hg6⟩
  | false =>
    cases so with
    | true =>
      obtain ⟨rfl, rfl⟩ := hzz rfl
      clear hP hU hf hm hl hd hw C hzz
      go_enter Try.func5, Try.ntmps5
      go_upto_region 5 with (first
        | (go_at_call 13; refine (a1.out _ hq.out).mono ?_; rintro e w1 ⟨rfl, hg1⟩; have hq1 := Hid.mk' (K.out _ _ hq.out hg1))
        | (go_at_call 14; refine (a2.out _).mono ?_; rintro e w2 ⟨rfl, hg2⟩; have hq2 := Hid.mk' (K.out _ _ hq1.out hg2))
        | (go_at_call 15; refine (a3.out _ hq2.out).mono ?_; rintro e w3 ⟨rfl, hg3⟩; have hq3 := Hid.mk' (K.out _ _ hq2.out hg3))
        | (go_at_call 16; refine (a4.out _).mono ?_; rintro e w4 ⟨rfl, hg4⟩; have hq4 := Hid.mk' (K.out _ _ hq3.out hg4)))
      go_wp2_with (go_at_call 13; refine (a6.out _ hq4.out).mono ?_; rintro e w6 ⟨rfl, hg6⟩)
      go_ret
      exact ⟨rfl, gt (gt (gt (gt hg1 hg2) hg3) hg4) hg6⟩
    | false =>
      clear hP hU hf hm hl hd hw C hzz
      go_enter Try.func5, Try.ntmps5
      go_upto_region 5 with (first
        | (go_at_call 13; refine (a1.out _ hq.out).mono ?_; rintro e w1 ⟨rfl, hg1⟩; have hq1 := Hid.mk' (K.out _ _ hq.out hg1))
        | (go_at_call 14; refine (a2.out _).mono ?_; rintro e w2 ⟨rfl, hg2⟩; have hq2 := Hid.mk' (K.out _ _ hq1.out hg2))
        | (go_at_call 15; refine (a3.out _ hq2.out).mono ?_; rintro e w3 ⟨rfl, hg3⟩; have hq3 := Hid.mk' (K.out _ _ hq2.out hg3))
        | (go_at_call 16; refine (a4.out _).mono ?_; rintro e w4 ⟨rfl, hg4⟩; have hq4 := Hid.mk' (K.out _ _ hq3.out hg4)))
      go_wp2_with (go_at_call 13; refine (a6.out _ hq4.out).mono ?_; rintro e w6 ⟨rfl, hg6⟩)
      go_ret
      exact ⟨rfl, gt (gt (gt (gt hg1 hg2) hg3) hg4) hg6⟩
end Go.Proofs.Ytdphkpjamclhjaa.C19
