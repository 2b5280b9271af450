/- The program's Set and Get of layer 13, whole; the contracts. -/
import Derived.Test.YtfehmbicolllkaaVE13
namespace Go.Proofs.Ytfehmbicolllkaa.C13
open Go.ChangeShapes Go.WideShapes Go.ChangeAt Go.RowKit Go.Maps Go.Proofs.Ytfehmbicolllkaa.Mem Go.Proofs.Ytfehmbicolllkaa.Ar Go.Proofs.Ytfehmbicolllkaa.Cb
set_option linter.unusedVariables false
set_option linter.unusedSimpArgs false

theorem trip_on : ∀ t ∈ trip, (onR (t.1 : Int)).isSome = true ∧ (onR (t.2.1 : Int)).isSome = true := by decide +kernel
theorem spR_on {u : Int} {l m : Nat} (h : spR u = some (l, m)) : ∃ x y, onR (l : Int) = some x ∧ onR (m : Int) = some y := by
  unfold spR at h
  cases e : trip.find? (fun p => decide ((p.2.2 : Int) = u)) with
  | none => rw [e] at h; cases h
  | some t =>
    rw [e] at h
    have h3 := Option.some.inj h
    have e1 : t.1 = l := congrArg Prod.fst h3
    have e2 : t.2.1 = m := congrArg Prod.snd h3
    obtain ⟨q1, q2⟩ := trip_on t (List.mem_of_find?_eq_some e)
    rw [e1] at q1
    rw [e2] at q2
    obtain ⟨x, hx⟩ := Option.isSome_iff_exists.1 q1
    obtain ⟨y, hy⟩ := Option.isSome_iff_exists.1 q2
    exact ⟨x, y, hx, hy⟩
set_option maxRecDepth 100000 in
set_option maxHeartbeats 1000000 in
theorem pset_1 (u : Int) (hu : I32 u) (b : Nat) (h1 : Hid (onR u = some b)) (w : World) : Calls Try.prog 19 #[.int .i32 u] w fun e w' => e = .returned (vpV 0 (str [b8 b])) ∧ w.grownBy w' none := by
  have hb := onR_lt h1.out
  have hb' : (b : Int) < 256 := by omega
  go_enter Try.func19, Try.ntmps19
  go_wp2_with (go_at_call 33; refine (byte_some u hu _ b h1).mono ?_; rintro e w1 ⟨rfl, hg1⟩; have sb1 := Hid.mk' ((SW.mk0 w).next hg1); obtain ⟨⟨r0, r1, r2, r3, r4, r5⟩, fr, z1⟩ := sb1.out.cells; have hcv := conv_one hb w1)
  refine bodyPost_ret (v := vpV 0 (str [b8 b])) (by simp [results, Try.results19, go_sem, r0, r1, r2, r3, r4, r5, z1, Nat.ne_of_lt z1, (Nat.ne_of_lt z1).symm]) rfl ⟨rfl, ?_⟩
  (repeat (first | with_reducible exact grownBy_refl _ _ | (with_reducible refine gs ?_ ?_; first | omega | (simp; omega)) | with_reducible refine ga ?_ | with_reducible refine gd ?_ | with_reducible refine gdn ?_ | with_reducible refine gt ?_ (by assumption)))
set_option maxRecDepth 100000 in
set_option maxHeartbeats 1000000 in
theorem pset_0 (u : Int) (hu : I32 u) (h1 : Hid (onR u = none)) (h2 : Hid (spR u = none)) (w : World) : Calls Try.prog 19 #[.int .i32 u] w fun e w' => e = .returned (vpV 11 ⟨#[]⟩) ∧ w.grownBy w' none := by
  go_enter Try.func19, Try.ntmps19
  go_wp2_with (first
    | (go_at_call 33; refine (byte_none u hu _ h1).mono ?_; rintro e w1 ⟨rfl, hg1⟩; have sb1 := Hid.mk' ((SW.mk0 w).next hg1); obtain ⟨⟨r0, r1, r2, r3, r4, r5⟩, fr, z1⟩ := sb1.out.cells)
    | (go_at_call 11; refine (pSplit u _ none h2).mono ?_; rintro e w2 ⟨rfl, hg2⟩; clear r0 r1 r2 r3 r4 r5 fr z1; have sb2 := Hid.mk' (sb1.out.next hg2); obtain ⟨⟨r0, r1, r2, r3, r4, r5⟩, fr, z1⟩ := sb2.out.cells))
  refine bodyPost_ret (v := vpV 11 ⟨#[]⟩) (by simp [results, Try.results19, go_sem, r0, r1, r2, r3, r4, r5, z1, Nat.ne_of_lt z1, (Nat.ne_of_lt z1).symm]) rfl ⟨rfl, ?_⟩
  (repeat (first | with_reducible exact grownBy_refl _ _ | (with_reducible refine gs ?_ ?_; first | omega | (simp; omega)) | with_reducible refine ga ?_ | with_reducible refine gd ?_ | with_reducible refine gdn ?_ | with_reducible refine gt ?_ (by assumption)))
set_option maxRecDepth 100000 in
set_option maxHeartbeats 1000000 in
theorem pset_2 (u : Int) (hu : I32 u) (h1 : Hid (onR u = none)) (l m : Nat) (h2 : Hid (spR u = some (l, m))) (x y : Nat) (h3 : Hid (onR (l : Int) = some x)) (h4 : Hid (onR (m : Int) = some y)) (w : World) : Calls Try.prog 19 #[.int .i32 u] w fun e w' => e = .returned (vpV 0 (str [b8 x, b8 y])) ∧ w.grownBy w' none := by
  have hx := onR_lt h3.out
  have hy := onR_lt h4.out
  have hx' : (x : Int) < 256 := by omega
  have hy' : (y : Int) < 256 := by omega
  obtain ⟨k, hk, hco, hl2, hm2⟩ := spR_back h2.out
  obtain ⟨L, hL⟩ : ∃ L : Int, (l : Int) = L := ⟨_, rfl⟩
  obtain ⟨M, hM⟩ : ∃ M : Int, (m : Int) = M := ⟨_, rfl⟩
  have hLI : I32 L := by unfold I32; omega
  have hMI : I32 M := by unfold I32; omega
  have a2 : Hid (∀ w, Calls Try.prog 11 #[.int .i32 u] w fun e w' => e = .returned (.tuple #[.int .i32 L, .int .i32 M, .bool true]) ∧ w.grownBy w' none) := Hid.mk' (fun w => by
    have := pSplit u w (some (l, m)) h2
    simp only [spT, hL, hM] at this
    exact this)
  rw [hL] at h3
  rw [hM] at h4
  clear hL hM h2 hk hco hl2 hm2
  go_enter Try.func19, Try.ntmps19
  go_upto_region 7 with (first
    | (go_at_call 33; refine (byte_none u hu _ h1).mono ?_; rintro e w1 ⟨rfl, hg1⟩; have sb1 := Hid.mk' ((SW.mk0 w).next hg1); obtain ⟨⟨r0, r1, r2, r3, r4, r5⟩, fr, z1⟩ := sb1.out.cells)
    | (go_at_call 11; refine (a2.out _).mono ?_; rintro e w2 ⟨rfl, hg2⟩; clear r0 r1 r2 r3 r4 r5 fr z1; have sb2 := Hid.mk' (sb1.out.next hg2); obtain ⟨⟨r0, r1, r2, r3, r4, r5⟩, fr, z1⟩ := sb2.out.cells))
  go_upto_region 8 with (go_at_call 33; refine (byte_some L hLI _ x h3).mono ?_; rintro e w3 ⟨rfl, hg3⟩; clear r0 r1 r2 r3 r4 r5 fr z1; have sb3 := Hid.mk' (sb2.out.next hg3); obtain ⟨⟨r0, r1, r2, r3, r4, r5⟩, fr, z1⟩ := sb3.out.cells)
  go_wp2_with (go_at_call 33; refine (byte_some M hMI _ y h4).mono ?_; rintro e w4 ⟨rfl, hg4⟩; clear r0 r1 r2 r3 r4 r5 fr z1; have sb4 := Hid.mk' (sb3.out.next hg4); obtain ⟨⟨r0, r1, r2, r3, r4, r5⟩, fr, z1⟩ := sb4.out.cells; have hcv := conv_two hx hy w4)
  refine bodyPost_ret (v := vpV 0 (str [b8 x, b8 y])) (by simp [results, Try.results19, go_sem, r0, r1, r2, r3, r4, r5, z1, Nat.ne_of_lt z1, (Nat.ne_of_lt z1).symm]) rfl ⟨rfl, ?_⟩
  (repeat (first | with_reducible exact grownBy_refl _ _ | (with_reducible refine gs ?_ ?_; first | omega | (simp; omega)) | with_reducible refine ga ?_ | with_reducible refine gd ?_ | with_reducible refine gdn ?_ | with_reducible refine gt ?_ (by assumption)))
theorem pSet (u : Int) (hu : I32 u) (w : World) : Calls Try.prog 19 #[.int .i32 u] w fun e w' => e = .returned (seV (seR u)) ∧ w.grownBy w' none := by
  cases h1 : onR u with
  | some b =>
    have e : seR u = some [b8 b] := by simp only [seR, h1]
    rw [e]
    exact pset_1 u hu b (Hid.mk' h1) w
  | none =>
    cases h2 : spR u with
    | none =>
      have e : seR u = none := by simp only [seR, h1, h2]
      rw [e]
      exact pset_0 u hu (Hid.mk' h1) (Hid.mk' h2) w
    | some p =>
      obtain ⟨l, m⟩ := p
      obtain ⟨x, y, h3, h4⟩ := spR_on h2
      have e : seR u = some [b8 x, b8 y] := by simp only [seR, h1, h2, h3, h4]
      rw [e]
      exact pset_2 u hu (Hid.mk' h1) l m (Hid.mk' h2) x y (Hid.mk' h3) (Hid.mk' h4) w
theorem fit_I32 {he : Int} (h : fitR 0 0 0 he = true) : I32 he := by
  unfold fitR at h
  rw [Bool.and_eq_true, Bool.or_eq_true] at h
  rcases h.2 with h | h
  · have := of_decide_eq_true h
    unfold I32
    omega
  · unfold hoR at h
    obtain ⟨t, ht, e⟩ := List.any_eq_true.1 h
    have e := of_decide_eq_true e
    have := (trip_two t ht).2.2.1
    unfold I32
    omega
theorem pGet (md bi ac he : Int) (ao : Option Addr) (cap : Nat) (L : List UInt8) (n : Nat) (hn : L.length = n) (w : World) (hB : Bytes w ao L) (hc : n ≤ cap) (hcm : cap ≤ 9223372036854775807) : Calls Try.prog 15 #[stV md bi ac he, .slice ao n cap] w fun e w' => e = .returned (geV md bi ac he L) ∧ w.grownBy w' none := by
  subst hn
  by_cases hf : fitR md bi ac he = true
  · have h0 : md = 0 ∧ bi = 0 ∧ ac = 0 := by
      unfold fitR at hf
      rw [Bool.and_eq_true] at hf
      exact of_decide_eq_true hf.1
    obtain ⟨rfl, rfl, rfl⟩ := h0
    have hhe := fit_I32 hf
    unfold geV
    rw [if_pos hf]
    have hf0 := Hid.mk' hf
    cases L with
    | nil => exact p_more he hf0 ao cap w
    | cons c L =>
      rcases hB with ⟨_, h⟩ | ⟨a, rfl, hcell⟩
      · cases h
      · obtain ⟨g, o, sp⟩ := a
        have hb0 := hcell 0 (by simp)
        have hsp : sp = none := by simpa [Addr.add] using World.cell?_spot hb0
        subst hsp
        have hlt := World.block_lt_of_cell? w _ hb0
        rw [addr_add, Nat.add_zero] at hb0
        simp only [List.getElem_cons_zero, addr_add] at hb0 hlt
        have hc256 : c.toNat < 256 := c.toNat_lt
        have hl1 : 0 < (c :: L).length := by simp
        have hl4 : (((c :: L).length : Int) == 0) = false := by simp; omega
        obtain ⟨n, hn⟩ : ∃ n, vsR c.toNat = n := ⟨_, rfl⟩
        have hnI : I32 (n : Int) := by have := vsR_le c.toNat hc256; unfold I32; omega
        simp only
        rw [hn]
        have hn0 := Hid.mk' hn
        unfold gtV
        by_cases h9 : n = 65533
        · rw [if_pos h9]
          exact p_ill he hf0 c.toNat hc256 n hn0 w g o _ cap hlt hb0 hl1 hc hcm hl4 h9
        · rw [if_neg h9]
          have h9' := Hid.mk' h9
          by_cases hz : he = 0
          · rw [if_pos hz]
            subst hz
            have hR := Hid.mk' (coR_zero (n : Int))
            by_cases hh : hoR (n : Int) = true
            · rw [if_pos hh]
              exact p_hold hf0 c.toNat hc256 n hn0 w g o _ cap hlt hb0 hl1 hc hcm hl4 h9' hnI hR (Hid.mk' hh)
            · rw [if_neg hh]
              exact p_one hf0 c.toNat hc256 n hn0 w g o _ cap hlt hb0 hl1 hc hcm hl4 h9' hnI hR (Hid.mk' (by simpa using hh))
          · rw [if_neg hz]
            have hz1 : (he == 0) = false := by simpa using hz
            have hz2 : (he != 0) = true := by simpa using hz
            cases hR : coR he (n : Int) with
            | some u => exact p_made he hhe hf0 c.toNat hc256 n hn0 w g o _ cap hlt hb0 hl1 hc hcm hl4 h9' hnI u (Hid.mk' hR)
            | none =>
              simp only
              by_cases hh : hoR (n : Int) = true
              · rw [if_pos hh]
                exact p_next he hhe hf0 c.toNat hc256 n hn0 w g o _ cap hlt hb0 hl1 hc hcm hl4 h9' hnI hz1 hz2 (Hid.mk' hR) (Hid.mk' hh)
              · rw [if_neg hh]
                exact p_two he hhe hf0 c.toNat hc256 n hn0 w g o _ cap hlt hb0 hl1 hc hcm hl4 h9' hnI hz1 hz2 (Hid.mk' hR) (Hid.mk' (by simpa using hh))
  · unfold geV
    rw [if_neg hf]
    exact p_bad md bi ac he (Hid.mk' (by simpa using hf)) ao L.length cap w
theorem con : Con (fun _ => True) where
  keep _ _ := trivial
  compose l m hl hm w R hR _ := pCompose l m hl hm w R hR
  split u hu w R hR _ := pSplit u w R hR
  fits md bi ac he w F hF _ := pFits md bi ac he w F hF
  drain md bi ac he w z ok hD _ := pDrain md bi ac he w z ok hD
  get md bi ac he ao cap L n hn w hB hc hcm _ := pGet md bi ac he ao cap L n hn w hB hc hcm
  set u hu w _ := pSet u hu w
end Go.Proofs.Ytfehmbicolllkaa.C13
