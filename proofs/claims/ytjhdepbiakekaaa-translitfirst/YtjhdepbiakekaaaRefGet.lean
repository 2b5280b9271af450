/- The document's step that gets a scalar: a walk. -/
import Derived.Test.YtjhdepbiakekaaaBndMath
import Derived.Test.YtjhdepbiakekaaaGet
namespace Go.Proofs.Ytjhdepbiakekaaa.U8
open Go.ChangeShapes Go.WideShapes Go.ChangeAt Go.RowKit Go.Proofs.Ytjhdepbiakekaaa.Mem Go.Proofs.Ytjhdepbiakekaaa.Ucs
set_option linter.unusedVariables false

theorem bounds_at (b o n cap c : Nat) (w : World) (hn : 1 ≤ n) (hn4 : n ≤ 4) (x0 : w.cell? ⟨b, o, none⟩ = some (.int .u8 (c : Int))) (hc : c < 256) (lo hi : Nat) (h : bnd n c = (lo, hi)) :
    Calls Try.prog 27 #[.slice (some ⟨b, o, none⟩) n cap] w fun e w' => e = .returned (.tuple #[.int .u8 (lo : Int), .int .u8 (hi : Int)]) ∧ w' = w := by
  have := bounds_any b o n cap c w hn hn4 x0 hc
  rw [h] at this
  exact this

theorem bounds_is (b o m n cap c : Nat) (w : World) (hm : m = n) (hn : 1 ≤ n) (hn4 : n ≤ 4) (x0 : w.cell? ⟨b, o, none⟩ = some (.int .u8 (c : Int))) (hc : c < 256) (lo hi : Nat) (h : bnd n c = (lo, hi)) :
    Calls Try.prog 27 #[.slice (some ⟨b, o, none⟩) m cap] w fun e w' => e = .returned (.tuple #[.int .u8 (lo : Int), .int .u8 (hi : Int)]) ∧ w' = w := by
  subst hm; exact bounds_at b o m cap c w hn hn4 x0 hc lo hi h

set_option maxRecDepth 100000 in
set_option maxHeartbeats 8000000 in
theorem refget_any (ao : Option Addr) (cap : Nat) (L : List UInt8) (w : World) (hB : Bytes w ao L) (hl : L.length ≤ 140737488355328) (hc : L.length ≤ cap) (hcm : cap ≤ 9223372036854775807) :
    Calls Try.prog 24 #[.slice ao L.length cap] w fun e w' => e = .returned (get L).val ∧ w.grownBy w' none := by
  have hres := heap_alloc_new w zeroGot
  have hg1 : Hid (w.grownBy (w.alloc zeroGot) none) := World.grownBy_alloc w zeroGot none
  by_cases hnil : L = []
  · subst hnil
    clear hB
    simp only [List.length_nil]
    go_enter Try.func24, Try.ntmps24
    go_wp2
    generalize w.alloc zeroGot = wz at *
    go_loopw [3] (fun t3 wx => t3 = .int .i64 0 ∧ wx = wz) (fun _ _ => 0)
    case atStart => exact ⟨rfl, rfl⟩
    case round =>
      obtain ⟨rfl, rfl⟩ := hrel
      have r0 := cell_at hres 0 rfl; have r1 := cell_at hres 1 rfl; have r2 := cell_at hres 2 rfl; have r3 := cell_at hres 3 rfl; have r4 := cell_at hres 4 rfl; have r5 := cell_at hres 5 rfl; have r6 := cell_at hres 6 rfl; have r7 := cell_at hres 7 rfl; have r8 := cell_at hres 8 rfl
      have fz := froz_at hres
      clear hres
      go_wp2_with (go_at_call 27; refine (bounds_nil _ _ _).mono ?_; rintro e w' ⟨rfl, hw⟩; obtain rfl := hw.symm)
      refine bodyPost_ret (v := gotV 1 0 0 0) (by simp [results, Try.results24, go_sem, r0, r1, r2, r3, r4, r5, r6, r7, r8]) rfl ⟨rfl, ?_⟩
      exact sets_new hg1.out (Nat.le_refl _) (grownBy_sets9 _ _ _ _ _ _ _ _ _ _ _)
  · obtain ⟨c, r, rfl⟩ := List.exists_cons_of_ne_nil hnil
    obtain ⟨b, o, rfl, hcell⟩ := Bytes.at (hB.alloc zeroGot) (by simp)
    have x0 := hcell 0 (by simp)
    simp only [Nat.add_zero, List.getElem_cons_zero] at x0
    have hcell' : Hid (∀ j (hj : j < r.length), (w.alloc zeroGot).cell? ⟨b, o + (j + 1), none⟩ = some (.int .u8 (r[j].toNat : Int))) := by
      refine (?_ : ∀ j hj, _)
      intro j hj
      exact hcell (j + 1) (by simp; omega)
    have hbc := u8_lt c
    have hlen : (c :: r).length = r.length + 1 := rfl
    rw [hlen] at hl hc ⊢
    clear hB hnil hlen hcell
    go_enter Try.func24, Try.ntmps24
    go_wp2
    generalize w.alloc zeroGot = wz at *
    go_loopw [3, 4, 5] (fun t3 t4 t5 wx => ∃ n : Nat, n ≤ r.length + 1 ∧ n ≤ 4 ∧ t3 = .int .i64 (n : Int) ∧ (n = 0 ∨ (1 ≤ n ∧ Hid (Acc c r n))) ∧ wx = wz) (fun t3 _ _ _ => 5 - (intOf t3).toNat)
    case atStart => exact ⟨0, by omega, by omega, rfl, .inl rfl, rfl⟩
    case round =>
      obtain ⟨n, hn1, hn4, rfl, hacc, rfl⟩ := hrel
      have r0 := cell_at hres 0 rfl; have r1 := cell_at hres 1 rfl; have r2 := cell_at hres 2 rfl; have r3 := cell_at hres 3 rfl; have r4 := cell_at hres 4 rfl; have r5 := cell_at hres 5 rfl; have r6 := cell_at hres 6 rfl; have r7 := cell_at hres 7 rfl; have r8 := cell_at hres 8 rfl
      have fz := froz_at hres
      clear hres
      by_cases h0 : n = 0
      · subst h0
        clear hacc
        by_cases hf : first c.toNat = true
        · have hf' := (first_iff c.toNat hbc).1 hf
          have f1 : (c.toNat : Int) ≤ 244 := by omega
          rcases hf'.2 with f2 | f2
          all_goals
            go_wp2_with (go_at_call 27; refine (bounds_nil _ _ _).mono ?_; rintro e w' ⟨rfl, hw⟩; obtain rfl := hw.symm)
            go_roundw
            case rel => exact ⟨1, by omega, by omega, rfl, .inr ⟨by omega, Hid.mk' (acc_one hf)⟩, trivial⟩
            case measure => simp [intOf]
        · have hill : Hid (get (c :: r) = .ill 1) := get_notfirst (by simpa using hf)
          have hf' : 244 < c.toNat ∨ (c.toNat ≤ 244 ∧ 128 ≤ c.toNat ∧ c.toNat < 194) := by
            have h := first_iff c.toNat hbc
            by_cases h1 : c.toNat ≤ 244
            · right
              refine ⟨h1, ?_⟩
              by_cases h2 : c.toNat < 128 ∨ 194 ≤ c.toNat
              · exact absurd (h.2 ⟨h1, h2⟩) hf
              · omega
            · left; omega
          clear hf
          rcases hf' with f1 | ⟨f1, f2, f3⟩
          all_goals
            go_wp2_with (go_at_call 27; refine (bounds_nil _ _ _).mono ?_; rintro e w' ⟨rfl, hw⟩; obtain rfl := hw.symm)
            refine bodyPost_ret (v := gotV 10 1 0 0) (by simp [results, Try.results24, go_sem, r0, r1, r2, r3, r4, r5, r6, r7, r8]) rfl ⟨by rw [hill.out]; rfl, ?_⟩
            exact sets_new hg1.out (Nat.le_refl _) (grownBy_sets9 _ _ _ _ _ _ _ _ _ _ _)
      · obtain ⟨hn0, hA⟩ := hacc.resolve_left h0
        clear hacc
        have hf := hA.out.1
        have hsz := hA.out.2.1
        by_cases hend : fsize (ix c.toNat) ≤ n
        · have hb := (bnd_end c.toNat n hbc hf hn0 hn4).1 hend
          have hok : Hid (get (c :: r) = .ok n (valOf (ix c.toNat) c.toNat (r.take (n - 1)))) := acc_end hA.out (by omega)
          have hn' : n = fsize (ix c.toNat) := by omega
          obtain ⟨k, hk⟩ : ∃ k, ix c.toNat = k := ⟨_, rfl⟩
          have hk4 := (first_ix hf).1
          have hform := ix_form c.toNat hk4
          rw [hk] at hok hn' hk4 hform
          clear hend hsz hA hf hk
          have hkk : k = 0 ∨ k = 1 ∨ k = 2 ∨ k = 3 := by omega
          have hlh := hb
          clear hb
          rcases hkk with rfl | rfl | rfl | rfl
          · simp only [fsize] at hn'
            subst hn'
            have hmd : (c.toNat : Int) = ((c.toNat - 0 : Nat) : Int) := by have h1 := hform.1; have h2 := hform.2; simp only [fmark] at h1; omega
            clear hmd
            clear hform
            by_cases hlast : r.length = 0
            all_goals
              first | (have hl1 : ¬ r.length = 0 := hlast; have hl2 : 0 < r.length := by omega) | (have hl2 : r.length = 0 := hlast)
              go_wp2_with (go_at_call 27; refine (bounds_at b o 1 cap c.toNat _ (by omega) (by omega) x0 hbc 0 0 hlh).mono ?_; rintro e w' ⟨rfl, hw⟩; obtain rfl := hw.symm)
              go_loopw [8, 9] (fun t8 t9 wx => ∃ i u : Nat, 1 ≤ i ∧ i ≤ 1 ∧ t9 = .int .i64 (i : Int) ∧ t8 = .int .i32 (u : Int) ∧ Hid (u = valOf 0 c.toNat (r.take (i - 1))) ∧ wx = wr) (fun _ t9 _ => 5 - (intOf t9).toNat)
              case atStart => exact ⟨1, c.toNat - fmark 0, by omega, by omega, rfl, by simp [fmark], (by simp [valOf] : _ = valOf 0 c.toNat (r.take (1 - 1))), rfl⟩
              case round =>
                obtain ⟨i, u, hi1, hi2, rfl, rfl, hu, rfl⟩ := hrel
                by_cases hil : i < 1
                · have hir : i - 1 < r.length := by omega
                  have xd := hcell'.out (i - 1) hir
                  rw [show i - 1 + 1 = i by omega] at xd
                  obtain ⟨d, hd⟩ : ∃ d, Hid (d = (r[i - 1]'hir).toNat) := ⟨_, rfl⟩
                  rw [← hd.out] at xd
                  have hd8 : d < 256 := by rw [hd.out]; exact u8_lt _
                  have hub : u < 67108864 / 64 := by
                    rw [hu.out]
                    have h1 := fold_lt (r.take (i - 1)) (c.toNat - fmark 0)
                    have h2 : (r.take (i - 1)).length ≤ 2 := by simp; omega
                    have h3 : (c.toNat - fmark 0 + 1) * 64 ^ (r.take (i - 1)).length ≤ 256 * 64 ^ 2 := Nat.mul_le_mul (by omega) (Nat.pow_le_pow_right (by omega) h2)
                    show List.foldl _ _ _ < _
                    omega
                  have hil' : (i : Int) < 1 := by omega
                  go_wp2
                  go_roundw
                  case rel => exact ⟨i + 1, u * 64 + d % 64, by omega, by omega, by go_num, by go_num, (by
                    rw [hu.out, hd.out, Nat.add_sub_cancel]
                    have := take_snoc' r (i - 1) hir
                    rw [show i - 1 + 1 = i by omega] at this
                    rw [this, valOf_snoc] : u * 64 + d % 64 = valOf 0 c.toNat (r.take (i + 1 - 1))), trivial⟩
                  case measure => simp [intOf]; omega
                · obtain rfl : i = 1 := by omega
                  go_wp2
                  refine bodyPost_ret (v := gotV 0 1 1 (u : Int)) (by simp [results, Try.results24, go_sem, r0, r1, r2, r3, r4, r5, r6, r7, r8]) rfl ⟨by rw [hok.out, hu.out]; rfl, ?_⟩
                  exact sets_new hg1.out (Nat.le_refl _) (grownBy_sets9 _ _ _ _ _ _ _ _ _ _ _)
          · simp only [fsize] at hn'
            subst hn'
            have hmd : (c.toNat : Int) % 32 = ((c.toNat - 192 : Nat) : Int) := by have h1 := hform.1; have h2 := hform.2; simp only [fmark] at h1; have := h2.2.1 rfl; omega
            skip
            clear hform
            by_cases hlast : r.length = 1
            all_goals
              first | (have hl1 : ¬ r.length = 1 := hlast; have hl2 : 1 < r.length := by omega) | (have hl2 : r.length = 1 := hlast)
              go_wp2_with (go_at_call 27; refine (bounds_at b o 2 cap c.toNat _ (by omega) (by omega) x0 hbc 0 0 hlh).mono ?_; rintro e w' ⟨rfl, hw⟩; obtain rfl := hw.symm)
              go_loopw [8, 9] (fun t8 t9 wx => ∃ i u : Nat, 1 ≤ i ∧ i ≤ 2 ∧ t9 = .int .i64 (i : Int) ∧ t8 = .int .i32 (u : Int) ∧ Hid (u = valOf 1 c.toNat (r.take (i - 1))) ∧ wx = wr) (fun _ t9 _ => 5 - (intOf t9).toNat)
              case atStart => exact ⟨1, c.toNat - fmark 1, by omega, by omega, rfl, by simp only [fmark]; rw [← hmd], (by simp [valOf] : _ = valOf 1 c.toNat (r.take (1 - 1))), rfl⟩
              case round =>
                obtain ⟨i, u, hi1, hi2, rfl, rfl, hu, rfl⟩ := hrel
                by_cases hil : i < 2
                · have hir : i - 1 < r.length := by omega
                  have xd := hcell'.out (i - 1) hir
                  rw [show i - 1 + 1 = i by omega] at xd
                  obtain ⟨d, hd⟩ : ∃ d, Hid (d = (r[i - 1]'hir).toNat) := ⟨_, rfl⟩
                  rw [← hd.out] at xd
                  have hd8 : d < 256 := by rw [hd.out]; exact u8_lt _
                  have hub : u < 67108864 / 64 := by
                    rw [hu.out]
                    have h1 := fold_lt (r.take (i - 1)) (c.toNat - fmark 1)
                    have h2 : (r.take (i - 1)).length ≤ 2 := by simp; omega
                    have h3 : (c.toNat - fmark 1 + 1) * 64 ^ (r.take (i - 1)).length ≤ 256 * 64 ^ 2 := Nat.mul_le_mul (by omega) (Nat.pow_le_pow_right (by omega) h2)
                    show List.foldl _ _ _ < _
                    omega
                  have hil' : (i : Int) < 2 := by omega
                  go_wp2
                  go_roundw
                  case rel => exact ⟨i + 1, u * 64 + d % 64, by omega, by omega, by go_num, by go_num, (by
                    rw [hu.out, hd.out, Nat.add_sub_cancel]
                    have := take_snoc' r (i - 1) hir
                    rw [show i - 1 + 1 = i by omega] at this
                    rw [this, valOf_snoc] : u * 64 + d % 64 = valOf 1 c.toNat (r.take (i + 1 - 1))), trivial⟩
                  case measure => simp [intOf]; omega
                · obtain rfl : i = 2 := by omega
                  go_wp2
                  refine bodyPost_ret (v := gotV 0 2 1 (u : Int)) (by simp [results, Try.results24, go_sem, r0, r1, r2, r3, r4, r5, r6, r7, r8]) rfl ⟨by rw [hok.out, hu.out]; rfl, ?_⟩
                  exact sets_new hg1.out (Nat.le_refl _) (grownBy_sets9 _ _ _ _ _ _ _ _ _ _ _)
          · simp only [fsize] at hn'
            subst hn'
            have hmd : (c.toNat : Int) % 16 = ((c.toNat - 224 : Nat) : Int) := by have h1 := hform.1; have h2 := hform.2; simp only [fmark] at h1; have := h2.2.2.1 rfl; omega
            skip
            clear hform
            by_cases hlast : r.length = 2
            all_goals
              first | (have hl1 : ¬ r.length = 2 := hlast; have hl2 : 2 < r.length := by omega) | (have hl2 : r.length = 2 := hlast)
              go_wp2_with (go_at_call 27; refine (bounds_at b o 3 cap c.toNat _ (by omega) (by omega) x0 hbc 0 0 hlh).mono ?_; rintro e w' ⟨rfl, hw⟩; obtain rfl := hw.symm)
              go_loopw [8, 9] (fun t8 t9 wx => ∃ i u : Nat, 1 ≤ i ∧ i ≤ 3 ∧ t9 = .int .i64 (i : Int) ∧ t8 = .int .i32 (u : Int) ∧ Hid (u = valOf 2 c.toNat (r.take (i - 1))) ∧ wx = wr) (fun _ t9 _ => 5 - (intOf t9).toNat)
              case atStart => exact ⟨1, c.toNat - fmark 2, by omega, by omega, rfl, by simp only [fmark]; rw [← hmd], (by simp [valOf] : _ = valOf 2 c.toNat (r.take (1 - 1))), rfl⟩
              case round =>
                obtain ⟨i, u, hi1, hi2, rfl, rfl, hu, rfl⟩ := hrel
                by_cases hil : i < 3
                · have hir : i - 1 < r.length := by omega
                  have xd := hcell'.out (i - 1) hir
                  rw [show i - 1 + 1 = i by omega] at xd
                  obtain ⟨d, hd⟩ : ∃ d, Hid (d = (r[i - 1]'hir).toNat) := ⟨_, rfl⟩
                  rw [← hd.out] at xd
                  have hd8 : d < 256 := by rw [hd.out]; exact u8_lt _
                  have hub : u < 67108864 / 64 := by
                    rw [hu.out]
                    have h1 := fold_lt (r.take (i - 1)) (c.toNat - fmark 2)
                    have h2 : (r.take (i - 1)).length ≤ 2 := by simp; omega
                    have h3 : (c.toNat - fmark 2 + 1) * 64 ^ (r.take (i - 1)).length ≤ 256 * 64 ^ 2 := Nat.mul_le_mul (by omega) (Nat.pow_le_pow_right (by omega) h2)
                    show List.foldl _ _ _ < _
                    omega
                  have hil' : (i : Int) < 3 := by omega
                  go_wp2
                  go_roundw
                  case rel => exact ⟨i + 1, u * 64 + d % 64, by omega, by omega, by go_num, by go_num, (by
                    rw [hu.out, hd.out, Nat.add_sub_cancel]
                    have := take_snoc' r (i - 1) hir
                    rw [show i - 1 + 1 = i by omega] at this
                    rw [this, valOf_snoc] : u * 64 + d % 64 = valOf 2 c.toNat (r.take (i + 1 - 1))), trivial⟩
                  case measure => simp [intOf]; omega
                · obtain rfl : i = 3 := by omega
                  go_wp2
                  refine bodyPost_ret (v := gotV 0 3 1 (u : Int)) (by simp [results, Try.results24, go_sem, r0, r1, r2, r3, r4, r5, r6, r7, r8]) rfl ⟨by rw [hok.out, hu.out]; rfl, ?_⟩
                  exact sets_new hg1.out (Nat.le_refl _) (grownBy_sets9 _ _ _ _ _ _ _ _ _ _ _)
          · simp only [fsize] at hn'
            subst hn'
            have hmd : (c.toNat : Int) % 8 = ((c.toNat - 240 : Nat) : Int) := by have h1 := hform.1; have h2 := hform.2; simp only [fmark] at h1; have := h2.2.2.2 rfl; omega
            skip
            clear hform
            by_cases hlast : r.length = 3
            all_goals
              first | (have hl1 : ¬ r.length = 3 := hlast; have hl2 : 3 < r.length := by omega) | (have hl2 : r.length = 3 := hlast)
              go_wp2_with (go_at_call 27; refine (bounds_at b o 4 cap c.toNat _ (by omega) (by omega) x0 hbc 0 0 hlh).mono ?_; rintro e w' ⟨rfl, hw⟩; obtain rfl := hw.symm)
              go_loopw [8, 9] (fun t8 t9 wx => ∃ i u : Nat, 1 ≤ i ∧ i ≤ 4 ∧ t9 = .int .i64 (i : Int) ∧ t8 = .int .i32 (u : Int) ∧ Hid (u = valOf 3 c.toNat (r.take (i - 1))) ∧ wx = wr) (fun _ t9 _ => 5 - (intOf t9).toNat)
              case atStart => exact ⟨1, c.toNat - fmark 3, by omega, by omega, rfl, by simp only [fmark]; rw [← hmd], (by simp [valOf] : _ = valOf 3 c.toNat (r.take (1 - 1))), rfl⟩
              case round =>
                obtain ⟨i, u, hi1, hi2, rfl, rfl, hu, rfl⟩ := hrel
                by_cases hil : i < 4
                · have hir : i - 1 < r.length := by omega
                  have xd := hcell'.out (i - 1) hir
                  rw [show i - 1 + 1 = i by omega] at xd
                  obtain ⟨d, hd⟩ : ∃ d, Hid (d = (r[i - 1]'hir).toNat) := ⟨_, rfl⟩
                  rw [← hd.out] at xd
                  have hd8 : d < 256 := by rw [hd.out]; exact u8_lt _
                  have hub : u < 67108864 / 64 := by
                    rw [hu.out]
                    have h1 := fold_lt (r.take (i - 1)) (c.toNat - fmark 3)
                    have h2 : (r.take (i - 1)).length ≤ 2 := by simp; omega
                    have h3 : (c.toNat - fmark 3 + 1) * 64 ^ (r.take (i - 1)).length ≤ 256 * 64 ^ 2 := Nat.mul_le_mul (by omega) (Nat.pow_le_pow_right (by omega) h2)
                    show List.foldl _ _ _ < _
                    omega
                  have hil' : (i : Int) < 4 := by omega
                  go_wp2
                  go_roundw
                  case rel => exact ⟨i + 1, u * 64 + d % 64, by omega, by omega, by go_num, by go_num, (by
                    rw [hu.out, hd.out, Nat.add_sub_cancel]
                    have := take_snoc' r (i - 1) hir
                    rw [show i - 1 + 1 = i by omega] at this
                    rw [this, valOf_snoc] : u * 64 + d % 64 = valOf 3 c.toNat (r.take (i + 1 - 1))), trivial⟩
                  case measure => simp [intOf]; omega
                · obtain rfl : i = 4 := by omega
                  go_wp2
                  refine bodyPost_ret (v := gotV 0 4 1 (u : Int)) (by simp [results, Try.results24, go_sem, r0, r1, r2, r3, r4, r5, r6, r7, r8]) rfl ⟨by rw [hok.out, hu.out]; rfl, ?_⟩
                  exact sets_new hg1.out (Nat.le_refl _) (grownBy_sets9 _ _ _ _ _ _ _ _ _ _ _)
        · have hs : n < fsize (ix c.toNat) := by omega
          have hbd := (bnd_end c.toNat n hbc hf hn0 hn4).2 hs
          obtain ⟨lo, hi, hlh⟩ : ∃ lo hi, bnd n c.toNat = (lo, hi) := ⟨_, _, rfl⟩
          rw [hlh] at hbd
          have hh1 : (hi : Int) ≠ 0 := by have := hbd.1; simp only at this; omega
          have hh2 : ((hi : Int) == 0) = false := by simpa using hh1
          have hn0' : (0 : Int) < (n : Int) := by omega
          by_cases hlast : n = r.length + 1
          · have hm : Hid (get (c :: r) = .more) := acc_more hA.out hs (by omega)
            have hlast' : decide ((n : Int) < (r.length : Int) + 1) = false := decide_eq_false (by omega)
            have hn0'' : ((n : Int) == 0) = false := by simp; omega
            have hh3 : ((hi : Int) != 0) = true := by simpa using hh1
            go_wp2_with (go_at_call 27; refine (bounds_is b o _ n cap c.toNat _ (by omega) hn0 hn4 x0 hbc lo hi hlh).mono ?_; rintro e w' ⟨rfl, hw⟩; obtain rfl := hw.symm)
            refine bodyPost_ret (v := gotV 1 0 0 0) (by simp [results, Try.results24, go_sem, r0, r1, r2, r3, r4, r5, r6, r7, r8]) rfl ⟨by rw [hm.out]; rfl, ?_⟩
            exact sets_new hg1.out (Nat.le_refl _) (grownBy_sets9 _ _ _ _ _ _ _ _ _ _ _)
          · have hlt : n - 1 < r.length := by omega
            have xd := hcell'.out (n - 1) hlt
            rw [show n - 1 + 1 = n by omega] at xd
            have hnx := acc_next hA.out hn0 hs hlt
            rw [hlh] at hnx
            obtain ⟨d, hd⟩ : ∃ d, d = (r[n - 1]'hlt).toNat := ⟨_, rfl⟩
            rw [← hd] at xd hnx
            have hlt' : (n : Int) < (r.length : Int) + 1 := by omega
            have hd8 : d < 256 := by rw [hd]; exact u8_lt _
            clear hd
            by_cases hin : lo ≤ d ∧ d ≤ hi
            · have hA' : Hid (Acc c r (n + 1)) := hnx.1 hin
              have g1 : decide ((d : Int) < (lo : Int)) = false := decide_eq_false (by omega)
              have g2 : decide ((hi : Int) < (d : Int)) = false := decide_eq_false (by omega)
              have hn0'' : ((n : Int) == 0) = false := by simp; omega
              clear hnx
              go_wp2_with (go_at_call 27; refine (bounds_is b o _ n cap c.toNat _ (by omega) hn0 hn4 x0 hbc lo hi hlh).mono ?_; rintro e w' ⟨rfl, hw⟩; obtain rfl := hw.symm)
              go_roundw
              case rel => exact ⟨n + 1, by omega, by have := fsize_le (ix c.toNat); omega, by go_num, .inr ⟨by omega, hA'⟩, trivial⟩
              case measure => simp [intOf]; omega
            · have hill : Hid (get (c :: r) = .ill n) := hnx.2 hin
              have hn0'' : ((n : Int) == 0) = false := by simp; omega
              have hg : (d : Int) < (lo : Int) ∨ ((lo : Int) ≤ (d : Int) ∧ (hi : Int) < (d : Int)) := by omega
              clear hnx hin
              rcases hg with g1 | ⟨g1, g2⟩
              all_goals
                go_wp2_with (go_at_call 27; refine (bounds_is b o _ n cap c.toNat _ (by omega) hn0 hn4 x0 hbc lo hi hlh).mono ?_; rintro e w' ⟨rfl, hw⟩; obtain rfl := hw.symm)
                all_goals (refine bodyPost_ret (v := gotV 10 (n : Int) 0 0) (by simp [results, Try.results24, go_sem, r0, r1, r2, r3, r4, r5, r6, r7, r8] <;> omega) rfl ⟨by rw [hill.out]; rfl, ?_⟩; exact sets_new hg1.out (Nat.le_refl _) (grownBy_sets9 _ _ _ _ _ _ _ _ _ _ _))
end Go.Proofs.Ytjhdepbiakekaaa.U8
