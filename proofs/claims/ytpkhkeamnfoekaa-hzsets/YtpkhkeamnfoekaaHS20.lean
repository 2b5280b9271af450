/- The document's Fits and End of layer 20: walks. -/
import Derived.Test.YtpkhkeamnfoekaaHP20
import Derived.Test.YtpkhkeamnfoekaaArgs
namespace Go.Proofs.Ytpkhkeamnfoekaa.C20
open Go.ChangeShapes Go.WideShapes Go.ChangeAt Go.RowKit Go.Proofs.Ytpkhkeamnfoekaa.Mem Go.Proofs.Ytpkhkeamnfoekaa.Cb Go.Proofs.Ytpkhkeamnfoekaa.Sp
set_option linter.unusedVariables false
set_option linter.unusedSimpArgs false

set_option maxRecDepth 100000 in
set_option maxHeartbeats 1000000 in
theorem fit_0  (w : World) : Calls Try.prog 10 #[stV 0 0 0 0] w fun e w' => e = .returned (.bool true) ∧ w.grownBy w' none := by
  go_enter Try.func10, Try.ntmps10
  go_wp2
  go_ret
  exact ⟨rfl, World.grownBy_alloc _ _ _⟩
set_option maxRecDepth 100000 in
set_option maxHeartbeats 1000000 in
theorem fit_1  (w : World) : Calls Try.prog 10 #[stV 1 0 0 0] w fun e w' => e = .returned (.bool true) ∧ w.grownBy w' none := by
  go_enter Try.func10, Try.ntmps10
  go_wp2
  go_ret
  exact ⟨rfl, World.grownBy_alloc _ _ _⟩
set_option maxRecDepth 100000 in
set_option maxHeartbeats 1000000 in
theorem fit_m (md : Int) (h0 : ¬ md = 0) (h1 : ¬ md = 1) (w : World) : Calls Try.prog 10 #[stV md 0 0 0] w fun e w' => e = .returned (.bool false) ∧ w.grownBy w' none := by
  have h0b : (md == 0) = false := by simpa using h0
  have h1b : (md == 1) = false := by simpa using h1
  go_enter Try.func10, Try.ntmps10
  go_wp2
  go_ret
  exact ⟨rfl, World.grownBy_alloc _ _ _⟩
set_option maxRecDepth 100000 in
set_option maxHeartbeats 1000000 in
theorem fit_b0 (bi ac he : Int) (h0 : ¬ bi = 0) (w : World) : Calls Try.prog 10 #[stV 0 bi ac he] w fun e w' => e = .returned (.bool false) ∧ w.grownBy w' none := by
  have h0b : (bi == 0) = false := by simpa using h0
  go_enter Try.func10, Try.ntmps10
  go_wp2
  go_ret
  exact ⟨rfl, World.grownBy_alloc _ _ _⟩
set_option maxRecDepth 100000 in
set_option maxHeartbeats 1000000 in
theorem fit_b1 (bi ac he : Int) (h0 : ¬ bi = 0) (w : World) : Calls Try.prog 10 #[stV 1 bi ac he] w fun e w' => e = .returned (.bool false) ∧ w.grownBy w' none := by
  have h0b : (bi == 0) = false := by simpa using h0
  go_enter Try.func10, Try.ntmps10
  go_wp2
  go_ret
  exact ⟨rfl, World.grownBy_alloc _ _ _⟩
set_option maxRecDepth 100000 in
set_option maxHeartbeats 1000000 in
theorem fit_a0 (ac he : Int) (h0 : ¬ ac = 0) (w : World) : Calls Try.prog 10 #[stV 0 0 ac he] w fun e w' => e = .returned (.bool false) ∧ w.grownBy w' none := by
  have h0b : (ac == 0) = false := by simpa using h0
  go_enter Try.func10, Try.ntmps10
  go_wp2
  go_ret
  exact ⟨rfl, World.grownBy_alloc _ _ _⟩
set_option maxRecDepth 100000 in
set_option maxHeartbeats 1000000 in
theorem fit_a1 (ac he : Int) (h0 : ¬ ac = 0) (w : World) : Calls Try.prog 10 #[stV 1 0 ac he] w fun e w' => e = .returned (.bool false) ∧ w.grownBy w' none := by
  have h0b : (ac == 0) = false := by simpa using h0
  go_enter Try.func10, Try.ntmps10
  go_wp2
  go_ret
  exact ⟨rfl, World.grownBy_alloc _ _ _⟩
set_option maxRecDepth 100000 in
set_option maxHeartbeats 1000000 in
theorem fit_h0 (he : Int) (h0 : ¬ he = 0) (w : World) : Calls Try.prog 10 #[stV 0 0 0 he] w fun e w' => e = .returned (.bool false) ∧ w.grownBy w' none := by
  have h0b : (he == 0) = false := by simpa using h0
  go_enter Try.func10, Try.ntmps10
  go_wp2
  go_ret
  exact ⟨rfl, World.grownBy_alloc _ _ _⟩
set_option maxRecDepth 100000 in
set_option maxHeartbeats 1000000 in
theorem fit_h1 (he : Int) (h0 : ¬ he = 0) (w : World) : Calls Try.prog 10 #[stV 1 0 0 he] w fun e w' => e = .returned (.bool false) ∧ w.grownBy w' none := by
  have h0b : (he == 0) = false := by simpa using h0
  go_enter Try.func10, Try.ntmps10
  go_wp2
  go_ret
  exact ⟨rfl, World.grownBy_alloc _ _ _⟩
set_option maxRecDepth 100000 in
set_option maxHeartbeats 1000000 in
theorem fit_n (md bi ac he : Int) (h0 : ¬ md = 0) (h1 : ¬ md = 1) (w : World) : Calls Try.prog 10 #[stV md bi ac he] w fun e w' => e = .returned (.bool false) ∧ w.grownBy w' none := by
  have h0b : (md == 0) = false := by simpa using h0
  have h1b : (md == 1) = false := by simpa using h1
  go_enter Try.func10, Try.ntmps10
  go_wp2
  go_ret
  exact ⟨rfl, World.grownBy_alloc _ _ _⟩
theorem fits_any (md bi ac he : Int) (w : World) (m : Nat) (hm : Hid (mo md bi ac he = m)) : Calls Try.prog 10 #[stV md bi ac he] w fun e w' => e = .returned (.bool (decide (m < 2))) ∧ w.grownBy w' none := by
  have hm2 := hm.out
  unfold mo at hm2
  by_cases hz : bi = 0 ∧ ac = 0 ∧ he = 0
  · rw [if_pos hz] at hm2
    obtain ⟨rfl, rfl, rfl⟩ := hz
    by_cases h0 : md = 0
    · subst h0; rw [if_pos rfl] at hm2; subst hm2; exact fit_0 w
    · rw [if_neg h0] at hm2
      by_cases h1 : md = 1
      · subst h1; rw [if_pos rfl] at hm2; subst hm2; exact fit_1 w
      · rw [if_neg h1] at hm2; subst hm2; exact fit_n md 0 0 0 h0 h1 w
  · rw [if_neg hz] at hm2
    subst hm2
    by_cases h0 : md = 0
    · subst h0
      by_cases hb : bi = 0
      · subst hb
        by_cases ha : ac = 0
        · subst ha
          exact fit_h0 he (fun e => hz ⟨rfl, rfl, e⟩) w
        · exact fit_a0 ac he ha w
      · exact fit_b0 bi ac he hb w
    · by_cases h1 : md = 1
      · subst h1
        by_cases hb : bi = 0
        · subst hb
          by_cases ha : ac = 0
          · subst ha
            exact fit_h1 he (fun e => hz ⟨rfl, rfl, e⟩) w
          · exact fit_a1 ac he ha w
        · exact fit_b1 bi ac he hb w
      · exact fit_n md bi ac he h0 h1 w
theorem fits_yes (md bi ac he : Int) (m : Nat) (hm : Hid (mo md bi ac he = m)) (h : m < 2) (w : World) : Calls Try.prog 10 #[stV md bi ac he] w fun e w' => e = .returned (.bool true) ∧ w.grownBy w' none := by
  have := fits_any md bi ac he w m hm
  rwa [decide_eq_true h] at this
theorem fits_not (md bi ac he : Int) (hm : Hid (mo md bi ac he = 2)) (w : World) : Calls Try.prog 10 #[stV md bi ac he] w fun e w' => e = .returned (.bool false) ∧ w.grownBy w' none := fits_any md bi ac he w 2 hm
theorem mo_le (md bi ac he : Int) : mo md bi ac he ≤ 2 := by
  unfold mo
  split
  · split
    · omega
    · split <;> omega
  · omega
theorem mo_fit {md bi ac he : Int} {m : Nat} (h : mo md bi ac he = m) (hm : m < 2) : md = (m : Int) ∧ bi = 0 ∧ ac = 0 ∧ he = 0 := by
  unfold mo at h
  by_cases hz : bi = 0 ∧ ac = 0 ∧ he = 0
  · rw [if_pos hz] at h
    refine ⟨?_, hz⟩
    by_cases h0 : md = 0
    · rw [if_pos h0] at h; omega
    · rw [if_neg h0] at h
      by_cases h1 : md = 1
      · rw [if_pos h1] at h; omega
      · rw [if_neg h1] at h; omega
  · rw [if_neg hz] at h; omega
set_option maxRecDepth 100000 in
set_option maxHeartbeats 1000000 in
theorem end_0  (w : World) : Calls Try.prog 5 #[stV 0 0 0 0] w fun e w' => e = .returned (.tuple #[.string ⟨#[]⟩, .int .i64 0]) ∧ w.grownBy w' none := by
  have hblk : Hid (∀ wx, (w.alloc (.cells (sC 0 0 0 0) 24)).grownBy wx none → wx.cell? ⟨w.heap.size, 0, none⟩ = some (.int .i64 0)) := Hid.mk' (fun wx hg => cell_at (blk_kept (heap_alloc_new w _) hg) 0 rfl)
  go_enter Try.func5, Try.ntmps5
  go_wp2_with (go_at_call 10; refine (fit_0 _).mono ?_; rintro e w1 ⟨rfl, hg1⟩; have x0 := hblk.out _ hg1)
  go_ret2
  exact ⟨rfl, gt (World.grownBy_alloc _ _ _) hg1⟩
set_option maxRecDepth 100000 in
set_option maxHeartbeats 1000000 in
theorem end_1  (w : World) : Calls Try.prog 5 #[stV 1 0 0 0] w fun e w' => e = .returned (.tuple #[.string ⟨#[126, 125]⟩, .int .i64 0]) ∧ w.grownBy w' none := by
  have hblk : Hid (∀ wx, (w.alloc (.cells (sC 1 0 0 0) 24)).grownBy wx none → wx.cell? ⟨w.heap.size, 0, none⟩ = some (.int .i64 1)) := Hid.mk' (fun wx hg => cell_at (blk_kept (heap_alloc_new w _) hg) 0 rfl)
  go_enter Try.func5, Try.ntmps5
  go_wp2_with (go_at_call 10; refine (fit_1 _).mono ?_; rintro e w1 ⟨rfl, hg1⟩; have x0 := hblk.out _ hg1)
  go_ret2
  exact ⟨rfl, gt (World.grownBy_alloc _ _ _) hg1⟩
set_option maxRecDepth 100000 in
set_option maxHeartbeats 1000000 in
theorem end_no (md bi ac he : Int) (hm : Hid (mo md bi ac he = 2)) (w : World) : Calls Try.prog 5 #[stV md bi ac he] w fun e w' => e = .returned (.tuple #[.string ⟨#[]⟩, .int .i64 7]) ∧ w.grownBy w' none := by
  have hblk : Hid (∀ wx, (w.alloc (.cells (sC md bi ac he) 24)).grownBy wx none → wx.cell? ⟨w.heap.size, 0, none⟩ = some (.int .i64 md)) := Hid.mk' (fun wx hg => cell_at (blk_kept (heap_alloc_new w _) hg) 0 rfl)
  go_enter Try.func5, Try.ntmps5
  go_wp2_with (go_at_call 10; refine (fits_not md bi ac he hm _).mono ?_; rintro e w1 ⟨rfl, hg1⟩; have x0 := hblk.out _ hg1)
  go_ret2
  exact ⟨rfl, gt (World.grownBy_alloc _ _ _) hg1⟩
theorem endRef_any (md bi ac he : Int) (w : World) (m : Nat) (hm : Hid (mo md bi ac he = m)) : Calls Try.prog 5 #[stV md bi ac he] w fun e w' => e = .returned (.tuple #[.string (str (enB m)), .int .i64 (enE m)]) ∧ w.grownBy w' none := by
  have hl := mo_le md bi ac he
  rw [hm.out] at hl
  by_cases h0 : m = 0
  · subst h0
    obtain ⟨rfl, rfl, rfl, rfl⟩ := mo_fit hm.out (by omega)
    exact end_0 w
  · by_cases h1 : m = 1
    · subst h1
      obtain ⟨rfl, rfl, rfl, rfl⟩ := mo_fit hm.out (by omega)
      exact end_1 w
    · obtain rfl : m = 2 := by omega
      exact end_no md bi ac he hm w
end Go.Proofs.Ytpkhkeamnfoekaa.C20
