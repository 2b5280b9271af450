/- EbcdicDigits: plain facts and the walk. -/
import Derived.Test.YtliaadlanpfjbaaWPl12
namespace Go.Proofs.Ytliaadlanpfjbaa.C12
open Go.ChangeShapes Go.WideShapes Go.ChangeAt Go.RowKit Go.Proofs.Ytliaadlanpfjbaa.Mem Go.Proofs.Ytliaadlanpfjbaa.El Go.Proofs.Ytliaadlanpfjbaa.Ru
set_option linter.unusedVariables false
set_option linter.unusedSimpArgs false

theorem tab_nodup {k : Int} (hk : k ∈ kinds) : (tab k).Nodup := by
  have : ∀ k ∈ kinds, (tab k).Nodup := by decide +kernel
  exact this k hk
theorem tab_351 {k : Int} (hk : k ∈ kinds) : ∀ x ∈ tab k, x ≤ 351 := by
  have : ∀ k ∈ kinds, ∀ x ∈ tab k, x ≤ 351 := by decide +kernel
  exact this k hk
theorem atR_eq {k : Int} (hk : k ∈ kinds) {b : Nat} (hb : b < 256) : ∃ h : b < (tab k).length, atR k b = (tab k)[b] := by
  have h : b < (tab k).length := by rw [tab_len hk]; exact hb
  refine ⟨h, ?_⟩
  rw [atR, List.getD_eq_getElem?_getD, List.getElem?_eq_getElem h]
  rfl
theorem at_351 {k : Int} (hk : k ∈ kinds) {b : Nat} (hb : b < 256) : atR k b ≤ 351 := by
  obtain ⟨h, e⟩ := atR_eq hk hb
  rw [e]
  exact tab_351 hk _ (List.getElem_mem h)
/-- All bytes stand for different scalars: the byte of a byte's scalar is that byte. -/
theorem byI_self {k : Int} (hk : k ∈ kinds) {b : Nat} (hb : b < 256) : scI k b = some (atR k b) ∧ byI k (atR k b : Int) = some b := by
  have h9 : atR k b ≠ 65533 := by have := at_351 hk hb; omega
  have hs : scI k b = some (atR k b) := scI_of hk rfl h9
  refine ⟨hs, ?_⟩
  obtain ⟨c, h1, h2, h3⟩ := scI_back hb hs
  obtain ⟨_, h4, _⟩ := scI_some h3
  obtain ⟨g1, e1⟩ := atR_eq hk hb
  obtain ⟨g2, e2⟩ := atR_eq hk (b := c) (by omega)
  have : (tab k)[c] = (tab k)[b] := by rw [← e1, ← e2, h4]
  have hcb : c = b := (List.getElem_inj (tab_nodup hk)).1 this
  rw [h1, hcb]
theorem dig28 : ∀ k ∈ kinds, ∀ n : Nat, n < 36 → 28 ≤ n → atR k (226 + n - 28) = 83 + n - 28 ∧ atR k (226 + n - 28 - 64) = 83 + n - 28 + 32 := by decide +kernel
theorem dig19 : ∀ k ∈ kinds, ∀ n : Nat, n < 28 → 19 ≤ n → atR k (209 + n - 19) = 74 + n - 19 ∧ atR k (209 + n - 19 - 64) = 74 + n - 19 + 32 := by decide +kernel
theorem dig10 : ∀ k ∈ kinds, ∀ n : Nat, n < 19 → 10 ≤ n → atR k (193 + n - 10) = 65 + n - 10 ∧ atR k (193 + n - 10 - 64) = 65 + n - 10 + 32 := by decide +kernel
theorem dig0 : ∀ k ∈ kinds, ∀ n : Nat, n < 10 → atR k (240 + n) = 48 + n := by decide +kernel
set_option maxRecDepth 100000 in
set_option maxHeartbeats 2000000 in
theorem digits_walk {P : World → Prop} (C : Con P) (a b : Int) (w : World) (hw : P w) : Calls Try.prog 7 #[.int .i64 a, .int .i64 b] w fun e w' => e = .returned (.bool true) ∧ w.grownBy w' none := by
  obtain ⟨r, hr0, hr3⟩ := mod_fit a 3 (by omega) (by omega)
  have hr : wrap64 ((IntKind.u64.wrap a).tmod 3) = (r : Int) := hr0
  obtain ⟨n, hn0, hn36⟩ := mod_fit b 36 (by omega) (by omega)
  have hn : wrap64 ((IntKind.u64.wrap b).tmod 36) = (n : Int) := hn0
  clear hr0 hn0
  obtain ⟨k, hkr, hkm, hk⟩ := kinds_at r hr3
  have a0 := Hid.mk' (fun w hw => works_any C w hw)
  have K := Hid.mk' (fun (a b : World) (h : P a) (g : a.grownBy b none) => C.keep h g)
  have hq := Hid.mk' hw
  have hr3' : (r : Int) < 3 := by omega
  have hn' : (n : Int) < 36 := by omega
  by_cases c28 : 28 ≤ n
  · obtain ⟨h1, h2⟩ := dig28 k hkm n (by omega) c28
    have s1 := (byI_self hkm (b := 226 + n - 28) (by omega)).2
    have s2 := (byI_self hkm (b := 226 + n - 28 - 64) (by omega)).2
    rw [h1] at s1
    rw [h2] at s2
    obtain ⟨x, hx⟩ : ∃ x, 226 + n - 28 = x := ⟨_, rfl⟩
    obtain ⟨y, hy⟩ : ∃ y, 226 + n - 28 - 64 = y := ⟨_, rfl⟩
    rw [hx] at s1
    rw [hy] at s2
    have a1 : Hid (∀ w, P w → Calls Try.prog 10 #[.int .i64 k, .int .i32 (83 + (n : Int) - 28)] w fun e w' => e = .returned (.tuple #[.int .u8 (226 + (n : Int) - 28), .bool true]) ∧ w.grownBy w' none) := Hid.mk' (fun w hw => by
            have := C.byte k hk (83 + (n : Int) - 28) (by unfold I32; omega) w (some x) (Hid.mk' (by rw [← s1]; congr 1; omega)) hw
            simp only [Option.getD_some, Option.isSome_some, show (x : Int) = 226 + (n : Int) - 28 by omega] at this
            exact this)
    have a2 : Hid (∀ w, P w → Calls Try.prog 10 #[.int .i64 k, .int .i32 (83 + (n : Int) - 28 + 32)] w fun e w' => e = .returned (.tuple #[.int .u8 (226 + (n : Int) - 28 - 64), .bool true]) ∧ w.grownBy w' none) := Hid.mk' (fun w hw => by
            have := C.byte k hk (83 + (n : Int) - 28 + 32) (by unfold I32; omega) w (some y) (Hid.mk' (by rw [← s2]; congr 1; omega)) hw
            simp only [Option.getD_some, Option.isSome_some, show (y : Int) = 226 + (n : Int) - 28 - 64 by omega] at this
            exact this)
    have d3 : 28 ≤ (n : Int) := by omega
    have d4 : ¬ (n : Int) < 10 := by omega
    clear h1 h2 s1 s2 hx hy hk hkm C hw c28
    go_enter Try.func7, Try.ntmps7
    go_upto_region 5 with (first
      | (go_at_call 17; refine (a0.out _ hq.out).mono ?_; rintro e w1 ⟨rfl, hg1, hp1⟩; have hq1 := Hid.mk' hp1; clear hp1)
      | (go_at_call 18; refine (kinds_row _).mono ?_; rintro e w2 ⟨g, rfl, hc, hg2⟩; have hq2 := Hid.mk' (K.out _ _ hq1.out hg2); have hc' := hc r k hkr; clear hc))
    clear hc'
    go_upto_region 16 with (go_at_call 10; refine (a1.out _ hq2.out).mono ?_; rintro e w3 ⟨rfl, hg3⟩; have hq3 := Hid.mk' (K.out _ _ hq2.out hg3))
    go_wp2_with (go_at_call 10; refine (a2.out _ hq3.out).mono ?_; rintro e w4 ⟨rfl, hg4⟩)
    go_ret
    exact ⟨rfl, gt (gt (gt hg1 hg2) hg3) hg4⟩
  · by_cases c19 : 19 ≤ n
    · obtain ⟨h1, h2⟩ := dig19 k hkm n (by omega) c19
      have s1 := (byI_self hkm (b := 209 + n - 19) (by omega)).2
      have s2 := (byI_self hkm (b := 209 + n - 19 - 64) (by omega)).2
      rw [h1] at s1
      rw [h2] at s2
      obtain ⟨x, hx⟩ : ∃ x, 209 + n - 19 = x := ⟨_, rfl⟩
      obtain ⟨y, hy⟩ : ∃ y, 209 + n - 19 - 64 = y := ⟨_, rfl⟩
      rw [hx] at s1
      rw [hy] at s2
      have a1 : Hid (∀ w, P w → Calls Try.prog 10 #[.int .i64 k, .int .i32 (74 + (n : Int) - 19)] w fun e w' => e = .returned (.tuple #[.int .u8 (209 + (n : Int) - 19), .bool true]) ∧ w.grownBy w' none) := Hid.mk' (fun w hw => by
            have := C.byte k hk (74 + (n : Int) - 19) (by unfold I32; omega) w (some x) (Hid.mk' (by rw [← s1]; congr 1; omega)) hw
            simp only [Option.getD_some, Option.isSome_some, show (x : Int) = 209 + (n : Int) - 19 by omega] at this
            exact this)
      have a2 : Hid (∀ w, P w → Calls Try.prog 10 #[.int .i64 k, .int .i32 (74 + (n : Int) - 19 + 32)] w fun e w' => e = .returned (.tuple #[.int .u8 (209 + (n : Int) - 19 - 64), .bool true]) ∧ w.grownBy w' none) := Hid.mk' (fun w hw => by
            have := C.byte k hk (74 + (n : Int) - 19 + 32) (by unfold I32; omega) w (some y) (Hid.mk' (by rw [← s2]; congr 1; omega)) hw
            simp only [Option.getD_some, Option.isSome_some, show (y : Int) = 209 + (n : Int) - 19 - 64 by omega] at this
            exact this)
      have d3 : 19 ≤ (n : Int) := by omega
      have d4 : ¬ (n : Int) < 10 := by omega
      have d5 : ¬ 28 ≤ (n : Int) := by omega
      clear h1 h2 s1 s2 hx hy hk hkm C hw c19
      go_enter Try.func7, Try.ntmps7
      go_upto_region 5 with (first
        | (go_at_call 17; refine (a0.out _ hq.out).mono ?_; rintro e w1 ⟨rfl, hg1, hp1⟩; have hq1 := Hid.mk' hp1; clear hp1)
        | (go_at_call 18; refine (kinds_row _).mono ?_; rintro e w2 ⟨g, rfl, hc, hg2⟩; have hq2 := Hid.mk' (K.out _ _ hq1.out hg2); have hc' := hc r k hkr; clear hc))
      clear hc'
      go_upto_region 16 with (go_at_call 10; refine (a1.out _ hq2.out).mono ?_; rintro e w3 ⟨rfl, hg3⟩; have hq3 := Hid.mk' (K.out _ _ hq2.out hg3))
      go_wp2_with (go_at_call 10; refine (a2.out _ hq3.out).mono ?_; rintro e w4 ⟨rfl, hg4⟩)
      go_ret
      exact ⟨rfl, gt (gt (gt hg1 hg2) hg3) hg4⟩
    · by_cases c10 : 10 ≤ n
      · obtain ⟨h1, h2⟩ := dig10 k hkm n (by omega) c10
        have s1 := (byI_self hkm (b := 193 + n - 10) (by omega)).2
        have s2 := (byI_self hkm (b := 193 + n - 10 - 64) (by omega)).2
        rw [h1] at s1
        rw [h2] at s2
        obtain ⟨x, hx⟩ : ∃ x, 193 + n - 10 = x := ⟨_, rfl⟩
        obtain ⟨y, hy⟩ : ∃ y, 193 + n - 10 - 64 = y := ⟨_, rfl⟩
        rw [hx] at s1
        rw [hy] at s2
        have a1 : Hid (∀ w, P w → Calls Try.prog 10 #[.int .i64 k, .int .i32 (65 + (n : Int) - 10)] w fun e w' => e = .returned (.tuple #[.int .u8 (193 + (n : Int) - 10), .bool true]) ∧ w.grownBy w' none) := Hid.mk' (fun w hw => by
            have := C.byte k hk (65 + (n : Int) - 10) (by unfold I32; omega) w (some x) (Hid.mk' (by rw [← s1]; congr 1; omega)) hw
            simp only [Option.getD_some, Option.isSome_some, show (x : Int) = 193 + (n : Int) - 10 by omega] at this
            exact this)
        have a2 : Hid (∀ w, P w → Calls Try.prog 10 #[.int .i64 k, .int .i32 (65 + (n : Int) - 10 + 32)] w fun e w' => e = .returned (.tuple #[.int .u8 (193 + (n : Int) - 10 - 64), .bool true]) ∧ w.grownBy w' none) := Hid.mk' (fun w hw => by
            have := C.byte k hk (65 + (n : Int) - 10 + 32) (by unfold I32; omega) w (some y) (Hid.mk' (by rw [← s2]; congr 1; omega)) hw
            simp only [Option.getD_some, Option.isSome_some, show (y : Int) = 193 + (n : Int) - 10 - 64 by omega] at this
            exact this)
        have d3 : 10 ≤ (n : Int) := by omega
        have d4 : ¬ (n : Int) < 10 := by omega
        have d5 : ¬ 19 ≤ (n : Int) := by omega
        have d6 : ¬ 28 ≤ (n : Int) := by omega
        clear h1 h2 s1 s2 hx hy hk hkm C hw c10
        go_enter Try.func7, Try.ntmps7
        go_upto_region 5 with (first
          | (go_at_call 17; refine (a0.out _ hq.out).mono ?_; rintro e w1 ⟨rfl, hg1, hp1⟩; have hq1 := Hid.mk' hp1; clear hp1)
          | (go_at_call 18; refine (kinds_row _).mono ?_; rintro e w2 ⟨g, rfl, hc, hg2⟩; have hq2 := Hid.mk' (K.out _ _ hq1.out hg2); have hc' := hc r k hkr; clear hc))
        clear hc'
        go_upto_region 16 with (go_at_call 10; refine (a1.out _ hq2.out).mono ?_; rintro e w3 ⟨rfl, hg3⟩; have hq3 := Hid.mk' (K.out _ _ hq2.out hg3))
        go_wp2_with (go_at_call 10; refine (a2.out _ hq3.out).mono ?_; rintro e w4 ⟨rfl, hg4⟩)
        go_ret
        exact ⟨rfl, gt (gt (gt hg1 hg2) hg3) hg4⟩
      · have h1 := dig0 k hkm n (by omega)
        have s1 := (byI_self hkm (b := 240 + n) (by omega)).2
        rw [h1] at s1
        obtain ⟨x, hx⟩ : ∃ x, 240 + n = x := ⟨_, rfl⟩
        rw [hx] at s1
        obtain ⟨R, hR⟩ : ∃ R, Hid (byI k (48 + (n : Int) + 32) = R) := ⟨_, Hid.mk' rfl⟩
        have a1 : Hid (∀ w, P w → Calls Try.prog 10 #[.int .i64 k, .int .i32 (48 + (n : Int))] w fun e w' => e = .returned (.tuple #[.int .u8 (240 + (n : Int)), .bool true]) ∧ w.grownBy w' none) := Hid.mk' (fun w hw => by
            have := C.byte k hk (48 + (n : Int)) (by unfold I32; omega) w (some x) (Hid.mk' (by rw [← s1]; congr 1)) hw
            simp only [Option.getD_some, Option.isSome_some, show (x : Int) = 240 + (n : Int) by omega] at this
            exact this)
        obtain ⟨y, q, a2⟩ : ∃ (y : Nat) (q : Bool), Hid (∀ w, P w → Calls Try.prog 10 #[.int .i64 k, .int .i32 (48 + (n : Int) + 32)] w fun e w' => e = .returned (.tuple #[.int .u8 (y : Int), .bool q]) ∧ w.grownBy w' none) := ⟨_, _, Hid.mk' (fun w hw => C.byte k hk _ (by unfold I32; omega) w R hR hw)⟩
        have d4 : (n : Int) < 10 := by omega
        have d5 : ¬ 28 ≤ (n : Int) := by omega
        have d6 : ¬ 19 ≤ (n : Int) := by omega
        have d7 : ¬ 10 ≤ (n : Int) := by omega
        clear h1 s1 hx hR hk hkm C hw
        go_enter Try.func7, Try.ntmps7
        go_upto_region 5 with (first
          | (go_at_call 17; refine (a0.out _ hq.out).mono ?_; rintro e w1 ⟨rfl, hg1, hp1⟩; have hq1 := Hid.mk' hp1; clear hp1)
          | (go_at_call 18; refine (kinds_row _).mono ?_; rintro e w2 ⟨g, rfl, hc, hg2⟩; have hq2 := Hid.mk' (K.out _ _ hq1.out hg2); have hc' := hc r k hkr; clear hc))
        clear hc'
        go_upto_region 16 with (go_at_call 10; refine (a1.out _ hq2.out).mono ?_; rintro e w3 ⟨rfl, hg3⟩; have hq3 := Hid.mk' (K.out _ _ hq2.out hg3))
        go_wp2_with (go_at_call 10; refine (a2.out _ hq3.out).mono ?_; rintro e w4 ⟨rfl, hg4⟩)
        go_ret
        exact ⟨rfl, gt (gt (gt hg1 hg2) hg3) hg4⟩
end Go.Proofs.Ytliaadlanpfjbaa.C12
