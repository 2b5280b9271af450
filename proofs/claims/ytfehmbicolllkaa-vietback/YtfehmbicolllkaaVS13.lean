/- The document's scalar, Holds, Compose, Split of layer 13: walks. -/
import Derived.Test.YtfehmbicolllkaaVF13
namespace Go.Proofs.Ytfehmbicolllkaa.C13
open Go.ChangeShapes Go.WideShapes Go.ChangeAt Go.RowKit Go.Proofs.Ytfehmbicolllkaa.Mem
set_option linter.unusedVariables false
set_option linter.unusedSimpArgs false

theorem gt {a b c : World} {row : Option Nat} (h : a.grownBy b row) (k : b.grownBy c row) : a.grownBy c row := ⟨k.os.trans h.os, k.tape.trans h.tape, k.output.trans h.output, Nat.le_trans h.size k.size, fun i hi hn => (k.block i (Nat.lt_of_lt_of_le hi h.size) hn).trans (h.block i hi hn)⟩
theorem gdw (w : World) (m : Nat) : w.grownBy (w.drewN m) none := ⟨rfl, rfl, rfl, Nat.le_refl _, fun _ _ _ => rfl⟩
/-- What stands for a byte; what a letter and a mark make; of what a number is made; whether it may be held. -/
def vsR (b : Nat) : Nat := if b < 128 then b else tl.getD (b - 128) 0
def coR (l m : Int) : Option Nat := (trip.find? (fun p => decide ((p.1 : Int) = l ∧ (p.2.1 : Int) = m))).map (fun p => p.2.2)
def spR (u : Int) : Option (Nat × Nat) := (trip.find? (fun p => decide ((p.2.2 : Int) = u))).map (fun p => (p.1, p.2.1))
def hoR (u : Int) : Bool := trip.any (fun p => decide ((p.1 : Int) = u))
theorem find_hit {p : Nat × Nat × Nat → Bool} {j : Nat} (hj : j < trip.length) (h1 : p trip[j] = true) (h0 : ∀ i (hi : i < j), p (trip[i]'(by omega)) = false) : trip.find? p = some trip[j] := by
  rw [List.find?_eq_some_iff_getElem]
  exact ⟨h1, j, hj, rfl, fun i hi => by rw [h0 i hi]; rfl⟩
theorem find_miss {p : Nat × Nat × Nat → Bool} (h0 : ∀ i (hi : i < trip.length), p trip[i] = false) : trip.find? p = none := by
  rw [List.find?_eq_none]
  intro x hx
  obtain ⟨i, hi, rfl⟩ := List.getElem_of_mem hx
  rw [h0 i hi]
  simp
theorem cut3 {s : ByteArray} {j q n : Nat} (h : s.data.toList = (dig4 t3).drop (12 * j + 4 * q)) (hn : t3[3 * j + q]? = some n) : At4 s n :=
  at4_of (j := 3 * j + q) (by rw [h]; congr 1; omega) hn t3_small

set_option maxRecDepth 100000 in
set_option maxHeartbeats 1000000 in
theorem scalar_any (b : Nat) (hb : b < 256) (w : World) (n : Nat) (hn : Hid (vsR b = n)) : Calls Try.prog 31 #[.int .u8 (b : Int)] w fun e w' => e = .returned (.int .i32 (n : Int)) ∧ w.grownBy w' none := by
  by_cases h : b < 128
  · have h' : (b : Int) < 128 := by omega
    have : b = n := by rw [← hn.out, vsR, if_pos h]
    subst this
    clear hn
    go_enter Try.func31, Try.ntmps31
    go_wp2
    go_ret
    exact ⟨rfl, ⟨rfl, rfl, rfl, Nat.le_refl _, fun _ _ _ => rfl⟩⟩
  · have h' : ¬ (b : Int) < 128 := by omega
    obtain ⟨j, hj⟩ : ∃ j, b - 128 = j := ⟨_, rfl⟩
    have hjl : j < tl.length := by rw [tl_len]; omega
    have hnj : Hid (tl[j]? = some n) := Hid.mk' (by
      rw [← hn.out, vsR, if_neg h, hj, List.getD_eq_getElem?_getD, List.getElem?_eq_getElem hjl]
      rfl)
    obtain ⟨p, hp⟩ : ∃ p, 4 * j = p := ⟨_, rfl⟩
    have e1 : 4 * ((b : Int) - 128) = (p : Int) := by omega
    have hp2 : p ≤ 512 := by rw [tl_len] at hjl; omega
    have hp0 := Hid.mk' hp
    have hb' : (b : Int) < 256 := by omega
    clear hn hj hjl hp
    go_enter Try.func31, Try.ntmps31
    go_wp2_with (first
      | (refine wpList_cut _ rfl _ _ rfl p rfl (dig4 tl) (by decide +kernel) 512 (by rw [dig4_len, tl_len]) hp2 ?_; intro s hs)
      | (go_at_call 25; refine (four_any s n (at4_of (j := j) (by rw [hs, hp0.out]) hnj.out tl_small) _).mono ?_; rintro e w1 ⟨rfl, m, rfl⟩))
    go_ret
    exact ⟨rfl, gdw _ _⟩

set_option maxRecDepth 100000 in
set_option maxHeartbeats 1000000 in
theorem holds_any (u : Int) (w : World) (H : Bool) (hH : Hid (hoR u = H)) : Calls Try.prog 32 #[.int .i32 u] w fun e w' => e = .returned (.bool H) ∧ w.grownBy w' none := by
  go_enter Try.func32, Try.ntmps32
  go_wp2
  go_loopw [3] (fun t3 wx => ∃ (j p : Nat), j ≤ 120 ∧ Hid (12 * j = p) ∧ p ≤ 1440 ∧ t3 = .int .i64 (p : Int) ∧ Hid (∀ i (hi : i < trip.length), i < j → decide ((trip[i].1 : Int) = u) = false) ∧ Hid (w.grownBy wx none)) (fun t3 _ => 1440 - (intOf t3).toNat)
  case atStart => exact ⟨0, 0, by omega, Hid.mk' rfl, by omega, rfl, Hid.mk' (by intro i _ h; omega), Hid.mk' ⟨rfl, rfl, rfl, Nat.le_refl _, fun _ _ _ => rfl⟩⟩
  case round =>
    obtain ⟨j, p, hj, hp, hp2, rfl, hb, hG⟩ := hrel
    by_cases hlt : j < 120
    · have hlt' : (p : Int) < 1440 := by have := hp.out; omega
      have hjl : j < trip.length := by rw [trip_len]; exact hlt
      obtain ⟨n, hn⟩ : ∃ n, Hid (trip[j].1 = n) := ⟨_, Hid.mk' rfl⟩
      have hn3 : Hid (t3[3 * j + 0]? = some n) := Hid.mk' (by have := (flat3 trip j hjl).1; rw [hn.out] at this; exact this)
      by_cases hu : (n : Int) = u
      · have : H = true := by
          rw [← hH.out, hoR, List.any_eq_true]
          exact ⟨trip[j], List.getElem_mem hjl, by rw [hn.out]; exact decide_eq_true hu⟩
        subst this
        subst hu
        have hjl0 := Hid.mk' hjl
        clear hH
        go_wp2_with (first
          | (refine wpList_cut _ rfl _ _ rfl p rfl (dig4 t3) (by decide +kernel) 1440 (by rw [dig4_len, t3_len]) hp2 ?_; intro s hs)
          | (go_at_call 25; refine (four_any s n (cut3 (j := j) (q := 0) (by rw [hs]; congr 1; have := hp.out; omega) hn3.out) _).mono ?_; rintro e w1 ⟨rfl, m, rfl⟩))
        go_ret
        exact ⟨rfl, gt hG.out (gdw _ _)⟩
      · have hu' : ((n : Int) == u) = false := by simpa using hu
        go_wp2_with (first
          | (refine wpList_cut _ rfl _ _ rfl p rfl (dig4 t3) (by decide +kernel) 1440 (by rw [dig4_len, t3_len]) hp2 ?_; intro s hs)
          | (go_at_call 25; refine (four_any s n (cut3 (j := j) (q := 0) (by rw [hs]; congr 1; have := hp.out; omega) hn3.out) _).mono ?_; rintro e w1 ⟨rfl, m, rfl⟩))
        go_roundw
        case rel => exact ⟨j + 1, p + 12, by omega, Hid.mk' (by have := hp.out; omega), by have := hp.out; omega, by go_num, Hid.mk' (fun i hi h => by
          by_cases e : i = j
          · subst e; rw [hn.out]; simpa using hu
          · exact hb.out i hi (by omega)), Hid.mk' (gt hG.out (gdw _ _))⟩
        all_goals (simp [intOf]; omega)
    · have hp' : p = 1440 := by have := hp.out; omega
      subst hp'
      have : H = false := by
        rw [← hH.out, hoR, List.any_eq_false]
        intro x hx
        obtain ⟨i, hi, rfl⟩ := List.getElem_of_mem hx
        have := hb.out i hi (by rw [trip_len] at hi; omega)
        simpa using this
      subst this
      clear hH
      go_wp2_with fail
      go_ret
      exact ⟨rfl, hG.out⟩
end Go.Proofs.Ytfehmbicolllkaa.C13
