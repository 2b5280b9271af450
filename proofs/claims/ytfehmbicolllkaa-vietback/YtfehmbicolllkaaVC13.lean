/- The document's Compose and Split of layer 13: walks. -/
import Derived.Test.YtfehmbicolllkaaVS13
namespace Go.Proofs.Ytfehmbicolllkaa.C13
open Go.ChangeShapes Go.WideShapes Go.ChangeAt Go.RowKit Go.Proofs.Ytfehmbicolllkaa.Mem
set_option linter.unusedVariables false
set_option linter.unusedSimpArgs false

theorem trip_at {j : Nat} (hj : j < 120) : ∃ a b c : Nat, Hid (∃ h : j < trip.length, trip[j] = (a, b, c)) ∧ Hid (t3[3 * j + 0]? = some a) ∧ Hid (t3[3 * j + 1]? = some b) ∧ Hid (t3[3 * j + 2]? = some c) := by
  have hjl : j < trip.length := by rw [trip_len]; exact hj
  obtain ⟨h1, h2, h3⟩ := flat3 trip j hjl
  exact ⟨_, _, _, Hid.mk' ⟨hjl, rfl⟩, Hid.mk' h1, Hid.mk' h2, Hid.mk' h3⟩
/-- The first triples do not fit. -/
def Miss (p : Nat × Nat × Nat → Bool) (j : Nat) : Prop := ∀ i (hi : i < trip.length), i < j → p trip[i] = false
theorem Miss.zero (p : Nat × Nat × Nat → Bool) : Miss p 0 := by intro i _ h; omega
theorem Miss.succ {p : Nat × Nat × Nat → Bool} {j : Nat} (h : Miss p j) (x : Nat × Nat × Nat) (hx : ∃ h : j < trip.length, trip[j] = x) (hp : p x = false) : Miss p (j + 1) := by
  intro i hi hlt
  by_cases e : i = j
  · subst e
    obtain ⟨_, e2⟩ := hx
    rw [e2]
    exact hp
  · exact h i hi (by omega)
theorem Miss.hit {p : Nat × Nat × Nat → Bool} {j : Nat} (h : Miss p j) (x : Nat × Nat × Nat) (hx : ∃ h : j < trip.length, trip[j] = x) (hp : p x = true) : trip.find? p = some x := by
  obtain ⟨hj, e⟩ := hx
  rw [← e]
  exact find_hit hj (by rw [e]; exact hp) (fun i hi => h i (by omega) hi)
theorem Miss.all {p : Nat × Nat × Nat → Bool} (h : Miss p 120) : trip.find? p = none := find_miss (fun i hi => h i hi (by rw [trip_len] at hi; exact hi))

set_option maxRecDepth 100000 in
set_option maxHeartbeats 1000000 in
theorem compose_any (l m : Int) (w : World) (R : Option Nat) (hR : Hid (coR l m = R)) : Calls Try.prog 10 #[.int .i32 l, .int .i32 m] w fun e w' => e = .returned (.tuple #[.int .i32 ((R.getD 0 : Nat) : Int), .bool R.isSome]) ∧ w.grownBy w' none := by
  obtain ⟨f, hf⟩ : ∃ f : Nat × Nat × Nat → Bool, Hid (f = fun p => decide ((p.1 : Int) = l ∧ (p.2.1 : Int) = m)) := ⟨_, Hid.mk' rfl⟩
  have hR2 : Hid ((trip.find? f).map (fun p => p.2.2) = R) := Hid.mk' (by rw [hf.out]; exact hR.out)
  clear hR
  go_enter Try.func10, Try.ntmps10
  go_wp2
  go_loopw [6] (fun t6 wx => ∃ (j p : Nat), j ≤ 120 ∧ Hid (12 * j = p) ∧ p ≤ 1440 ∧ t6 = .int .i64 (p : Int) ∧ Hid (Miss f j) ∧ Hid (w.grownBy wx none)) (fun t6 _ => 1440 - (intOf t6).toNat)
  case atStart => exact ⟨0, 0, by omega, Hid.mk' rfl, by omega, rfl, Hid.mk' (Miss.zero f), Hid.mk' ⟨rfl, rfl, rfl, Nat.le_refl _, fun _ _ _ => rfl⟩⟩
  case round =>
    obtain ⟨j, p, hj, hp, hp2, rfl, hb, hG⟩ := hrel
    by_cases hlt : j < 120
    · have hlt' : (p : Int) < 1440 := by have := hp.out; omega
      obtain ⟨a, b, c, ht, n0, n1, n2⟩ := trip_at hlt
      obtain ⟨p4, hp4⟩ : ∃ q, Hid (p + 4 = q) := ⟨_, Hid.mk' rfl⟩
      obtain ⟨p8, hp8⟩ : ∃ q, Hid (p + 8 = q) := ⟨_, Hid.mk' rfl⟩
      have e4 : (p : Int) + 4 = (p4 : Int) := by have := hp4.out; omega
      have e8 : (p : Int) + 8 = (p8 : Int) := by have := hp8.out; omega
      have b4 : p4 ≤ 1440 := by have := hp4.out; have := hp.out; omega
      have b8 : p8 ≤ 1440 := by have := hp8.out; have := hp.out; omega
      by_cases ha : (a : Int) = l
      · by_cases hm : (b : Int) = m
        · have : R = some c := by
            rw [← hR2.out, hb.out.hit (a, b, c) ht.out (by rw [hf.out]; simp [ha, hm])]
            rfl
          subst this
          subst ha
          subst hm
          clear hR2
          go_upto_region 5 with (first
            | (refine wpList_cut _ rfl _ _ rfl p rfl (dig4 t3) (by decide +kernel) 1440 (by rw [dig4_len, t3_len]) hp2 ?_; intro s hs)
            | (refine wpList_cut _ rfl _ _ rfl p4 rfl (dig4 t3) (by decide +kernel) 1440 (by rw [dig4_len, t3_len]) b4 ?_; intro s4 hs4)
            | (go_at_call_of 25 (Value.string s); refine (four_any s a (cut3 (j := j) (q := 0) (by rw [hs]; congr 1; have := hp.out; omega) n0.out) _).mono ?_; rintro e w1 ⟨rfl, m1, rfl⟩)
            | (go_at_call_of 25 (Value.string s4); refine (four_any s4 b (cut3 (j := j) (q := 1) (by rw [hs4]; congr 1; have := hp4.out; have := hp.out; omega) n1.out) _).mono ?_; rintro e w2 ⟨rfl, m2, rfl⟩))
          go_wp2_with (first
            | (refine wpList_cut _ rfl _ _ rfl p8 rfl (dig4 t3) (by decide +kernel) 1440 (by rw [dig4_len, t3_len]) b8 ?_; intro s8 hs8)
            | (go_at_call 25; refine (four_any s8 c (cut3 (j := j) (q := 2) (by rw [hs8]; congr 1; have := hp8.out; have := hp.out; omega) n2.out) _).mono ?_; rintro e w3 ⟨rfl, m3, rfl⟩))
          go_ret2
          exact ⟨rfl, gt hG.out (gdw _ _)⟩
        · have hm' : ((b : Int) == m) = false := by simpa using hm
          have hmiss : Hid (Miss f (j + 1)) := Hid.mk' (hb.out.succ (a, b, c) ht.out (by rw [hf.out]; simp [hm]))
          subst ha
          go_wp2_with (first
            | (refine wpList_cut _ rfl _ _ rfl p rfl (dig4 t3) (by decide +kernel) 1440 (by rw [dig4_len, t3_len]) hp2 ?_; intro s hs)
            | (refine wpList_cut _ rfl _ _ rfl p4 rfl (dig4 t3) (by decide +kernel) 1440 (by rw [dig4_len, t3_len]) b4 ?_; intro s4 hs4)
            | (go_at_call_of 25 (Value.string s); refine (four_any s a (cut3 (j := j) (q := 0) (by rw [hs]; congr 1; have := hp.out; omega) n0.out) _).mono ?_; rintro e w1 ⟨rfl, m1, rfl⟩)
            | (go_at_call_of 25 (Value.string s4); refine (four_any s4 b (cut3 (j := j) (q := 1) (by rw [hs4]; congr 1; have := hp4.out; have := hp.out; omega) n1.out) _).mono ?_; rintro e w2 ⟨rfl, m2, rfl⟩))
          go_roundw
          case rel => exact ⟨j + 1, p + 12, by omega, Hid.mk' (by have := hp.out; omega), by have := hp.out; omega, by go_num, hmiss, Hid.mk' (gt hG.out (gdw _ _))⟩
          all_goals (simp [intOf]; omega)
      · have ha' : ((a : Int) == l) = false := by simpa using ha
        have hmiss : Hid (Miss f (j + 1)) := Hid.mk' (hb.out.succ (a, b, c) ht.out (by rw [hf.out]; simp [ha]))
        go_wp2_with (first
          | (refine wpList_cut _ rfl _ _ rfl p rfl (dig4 t3) (by decide +kernel) 1440 (by rw [dig4_len, t3_len]) hp2 ?_; intro s hs)
          | (go_at_call_of 25 (Value.string s); refine (four_any s a (cut3 (j := j) (q := 0) (by rw [hs]; congr 1; have := hp.out; omega) n0.out) _).mono ?_; rintro e w1 ⟨rfl, m1, rfl⟩))
        go_roundw
        case rel => exact ⟨j + 1, p + 12, by omega, Hid.mk' (by have := hp.out; omega), by have := hp.out; omega, by go_num, hmiss, Hid.mk' (gt hG.out (gdw _ _))⟩
        all_goals (simp [intOf]; omega)
    · have hp' : p = 1440 := by have := hp.out; omega
      obtain rfl : j = 120 := by omega
      subst hp'
      have : R = none := by rw [← hR2.out, hb.out.all]; rfl
      subst this
      clear hR2
      go_wp2_with fail
      go_ret2
      exact ⟨rfl, hG.out⟩
end Go.Proofs.Ytfehmbicolllkaa.C13
