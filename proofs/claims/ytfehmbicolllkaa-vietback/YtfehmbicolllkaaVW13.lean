/- The contracts that the laws of layer 13 want of the program; VietMakes, VietSets: the walks. -/
import Derived.Test.YtfehmbicolllkaaVT13
import Derived.WalkSpells
import Derived.WalkLawsBesides
namespace Go.Proofs.Ytfehmbicolllkaa.C13
open Go.ChangeShapes Go.WideShapes Go.ChangeAt Go.RowKit Go.Proofs.Ytfehmbicolllkaa.Mem
set_option linter.unusedVariables false
set_option linter.unusedSimpArgs false

def I32 (k : Int) : Prop := -2147483648 ≤ k ∧ k ≤ 2147483647
structure Con (P : World → Prop) : Prop where
  keep : ∀ {w w' : World}, P w → w.grownBy w' none → P w'
  compose : ∀ (l m : Int) (hl : I32 l) (hm : I32 m) (w : World) (R : Option Nat) (hR : Hid (coR l m = R)), P w → Calls Try.prog 9 #[.int .i32 l, .int .i32 m] w fun e w' => e = .returned (.tuple #[.int .i32 ((R.getD 0 : Nat) : Int), .bool R.isSome]) ∧ w.grownBy w' none
  split : ∀ (u : Int) (hu : I32 u) (w : World) (R : Option (Nat × Nat)) (hR : Hid (spR u = R)), P w → Calls Try.prog 11 #[.int .i32 u] w fun e w' => e = .returned (.tuple #[.int .i32 ((spT R).1 : Int), .int .i32 ((spT R).2.1 : Int), .bool (spT R).2.2]) ∧ w.grownBy w' none
  fits : ∀ (md bi ac he : Int) (w : World) (F : Bool) (hF : Hid (fitR md bi ac he = F)), P w → Calls Try.prog 17 #[stV md bi ac he] w fun e w' => e = .returned (.bool F) ∧ w.grownBy w' none
  drain : ∀ (md bi ac he : Int) (w : World) (z : Int) (ok : Bool) (hD : Hid (drT md bi ac he = (z, ok))), P w → Calls Try.prog 13 #[stV md bi ac he] w fun e w' => e = .returned (.tuple #[.int .i32 z, .bool ok]) ∧ w.grownBy w' none
  get : ∀ (md bi ac he : Int) (ao : Option Addr) (cap : Nat) (L : List UInt8) (n : Nat) (hn : L.length = n) (w : World) (hB : Bytes w ao L) (hc : n ≤ cap) (hcm : cap ≤ 9223372036854775807), P w → Calls Try.prog 15 #[stV md bi ac he, .slice ao n cap] w fun e w' => e = .returned (geV md bi ac he L) ∧ w.grownBy w' none
  set : ∀ (u : Int) (hu : I32 u) (w : World), P w → Calls Try.prog 19 #[.int .i32 u] w fun e w' => e = .returned (seV (seR u)) ∧ w.grownBy w' none
theorem trip_two : ∀ t ∈ trip, spR (t.2.2 : Int) = some (t.1, t.2.1) ∧ coR (t.1 : Int) (t.2.1 : Int) = some t.2.2 ∧ t.1 ≤ 65535 ∧ t.2.1 ≤ 65535 ∧ t.2.2 ≤ 65535 := by decide +kernel
theorem coR_back {l m : Int} {n : Nat} (h : coR l m = some n) : ∃ a b : Nat, l = (a : Int) ∧ m = (b : Int) ∧ spR (n : Int) = some (a, b) ∧ n ≤ 65535 := by
  unfold coR at h
  cases e : trip.find? (fun p => decide ((p.1 : Int) = l ∧ (p.2.1 : Int) = m)) with
  | none => rw [e] at h; cases h
  | some t =>
    rw [e] at h
    have h1 := List.find?_some e
    simp only [decide_eq_true_eq] at h1
    have h2 := trip_two t (List.mem_of_find?_eq_some e)
    have h3 : t.2.2 = n := Option.some.inj h
    rw [h3] at h2
    exact ⟨t.1, t.2.1, h1.1.symm, h1.2.symm, h2.1, h2.2.2.2.2⟩
theorem spR_back {u : Int} {a b : Nat} (h : spR u = some (a, b)) : ∃ n : Nat, u = (n : Int) ∧ coR (a : Int) (b : Int) = some n ∧ a ≤ 65535 ∧ b ≤ 65535 := by
  unfold spR at h
  cases e : trip.find? (fun p => decide ((p.2.2 : Int) = u)) with
  | none => rw [e] at h; cases h
  | some t =>
    rw [e] at h
    have h1 := List.find?_some e
    simp only [decide_eq_true_eq] at h1
    have h2 := trip_two t (List.mem_of_find?_eq_some e)
    have h3 := Option.some.inj h
    have e1 : t.1 = a := congrArg Prod.fst h3
    have e2 : t.2.1 = b := congrArg Prod.snd h3
    rw [e1, e2] at h2
    exact ⟨t.2.2, h1.symm, h2.2.1, h2.2.2.1, h2.2.2.2.1⟩

set_option maxRecDepth 100000 in
set_option maxHeartbeats 2000000 in
theorem makes_walk {P : World → Prop} (C : Con P) (l m u : Int) (hl : I32 l) (hm : I32 m) (hu : I32 u) (w : World) (hw : P w) : Calls Try.prog 3 #[.int .i32 l, .int .i32 m, .int .i32 u] w fun e w' => e = .returned (.bool true) ∧ w.grownBy w' none := by
  have hq := Hid.mk' hw
  have K := Hid.mk' (fun (a b : World) (h : P a) (g : a.grownBy b none) => C.keep h g)
  have z5 : Hid (∀ w, P w → Calls Try.prog 11 #[.int .i32 0] w fun e w' => e = .returned (.tuple #[.int .i32 0, .int .i32 0, .bool false]) ∧ w.grownBy w' none) := Hid.mk' (fun w hw => C.split 0 (by unfold I32; omega) w none (Hid.mk' (by decide +kernel)) hw)
  have z6 : Hid (∀ w, P w → Calls Try.prog 9 #[.int .i32 0, .int .i32 0] w fun e w' => e = .returned (.tuple #[.int .i32 0, .bool false]) ∧ w.grownBy w' none) := Hid.mk' (fun w hw => C.compose 0 0 (by unfold I32; omega) (by unfold I32; omega) w none (Hid.mk' (by decide +kernel)) hw)
  have e1 : (l == l) = true := by simp
  have e2 : (m == m) = true := by simp
  have e3 : (u == u) = true := by simp
  cases hR : coR l m with
  | none =>
    have a1 : Hid (∀ w, P w → Calls Try.prog 9 #[.int .i32 l, .int .i32 m] w fun e w' => e = .returned (.tuple #[.int .i32 0, .bool false]) ∧ w.grownBy w' none) := Hid.mk' (fun w hw => C.compose l m hl hm w none (Hid.mk' hR) hw)
    have a2 : Hid (∀ w, Calls Try.prog 10 #[.int .i32 l, .int .i32 m] w fun e w' => e = .returned (.tuple #[.int .i32 0, .bool false]) ∧ w.grownBy w' none) := Hid.mk' (fun w => compose_any l m w none (Hid.mk' hR))
    have a5 := z5
    cases hS : spR u with
    | none =>
      have a3 : Hid (∀ w, P w → Calls Try.prog 11 #[.int .i32 u] w fun e w' => e = .returned (.tuple #[.int .i32 0, .int .i32 0, .bool false]) ∧ w.grownBy w' none) := Hid.mk' (fun w hw => C.split u hu w none (Hid.mk' hS) hw)
      have a4 : Hid (∀ w, Calls Try.prog 12 #[.int .i32 u] w fun e w' => e = .returned (.tuple #[.int .i32 0, .int .i32 0, .bool false]) ∧ w.grownBy w' none) := Hid.mk' (fun w => split_any u w none (Hid.mk' hS))
      have a6 := z6
      clear hR hS C hw hl hm hu z5 z6
      go_enter Try.func3, Try.ntmps3
      go_upto_region 5 with (first
        | (go_at_call 9; refine (a1.out _ hq.out).mono ?_; rintro e w1 ⟨rfl, hg1⟩; have hq1 := Hid.mk' (K.out _ _ hq.out hg1))
        | (go_at_call 10; refine (a2.out _).mono ?_; rintro e w2 ⟨rfl, hg2⟩; have hq2 := Hid.mk' (K.out _ _ hq1.out hg2))
        | (go_at_call 11; refine (a3.out _ hq2.out).mono ?_; rintro e w3 ⟨rfl, hg3⟩; have hq3 := Hid.mk' (K.out _ _ hq2.out hg3))
        | (go_at_call 12; refine (a4.out _).mono ?_; rintro e w4 ⟨rfl, hg4⟩; have hq4 := Hid.mk' (K.out _ _ hq3.out hg4)))
      go_wp2_with (first
        | (go_at_call 11; refine (a5.out _ hq4.out).mono ?_; rintro e w5 ⟨rfl, hg5⟩; have hq5 := Hid.mk' (K.out _ _ hq4.out hg5))
        | (go_at_call 9; refine (a6.out _ hq5.out).mono ?_; rintro e w6 ⟨rfl, hg6⟩))
      go_ret
      exact ⟨rfl, gt (gt (gt (gt (gt hg1 hg2) hg3) hg4) hg5) hg6⟩
    | some q =>
      obtain ⟨x, y⟩ := q
      obtain ⟨k, hk, hco, hx, hy⟩ := spR_back hS
      have a3 : Hid (∀ w, P w → Calls Try.prog 11 #[.int .i32 u] w fun e w' => e = .returned (.tuple #[.int .i32 (x : Int), .int .i32 (y : Int), .bool true]) ∧ w.grownBy w' none) := Hid.mk' (fun w hw => C.split u hu w (some (x, y)) (Hid.mk' hS) hw)
      have a4 : Hid (∀ w, Calls Try.prog 12 #[.int .i32 u] w fun e w' => e = .returned (.tuple #[.int .i32 (x : Int), .int .i32 (y : Int), .bool true]) ∧ w.grownBy w' none) := Hid.mk' (fun w => split_any u w (some (x, y)) (Hid.mk' hS))
      have a6 : Hid (∀ w, P w → Calls Try.prog 9 #[.int .i32 (x : Int), .int .i32 (y : Int)] w fun e w' => e = .returned (.tuple #[.int .i32 u, .bool true]) ∧ w.grownBy w' none) := Hid.mk' (fun w hw => by
        have := C.compose (x : Int) (y : Int) (by unfold I32; omega) (by unfold I32; omega) w (some k) (Hid.mk' hco) hw
        rw [hk]
        exact this)
      have ex : ((x : Int) != (x : Int)) = false := by simp
      have ey : ((y : Int) != (y : Int)) = false := by simp
      clear hR hS hk hco C hw hl hm hu z5 z6
      go_enter Try.func3, Try.ntmps3
      go_upto_region 5 with (first
        | (go_at_call 9; refine (a1.out _ hq.out).mono ?_; rintro e w1 ⟨rfl, hg1⟩; have hq1 := Hid.mk' (K.out _ _ hq.out hg1))
        | (go_at_call 10; refine (a2.out _).mono ?_; rintro e w2 ⟨rfl, hg2⟩; have hq2 := Hid.mk' (K.out _ _ hq1.out hg2))
        | (go_at_call 11; refine (a3.out _ hq2.out).mono ?_; rintro e w3 ⟨rfl, hg3⟩; have hq3 := Hid.mk' (K.out _ _ hq2.out hg3))
        | (go_at_call 12; refine (a4.out _).mono ?_; rintro e w4 ⟨rfl, hg4⟩; have hq4 := Hid.mk' (K.out _ _ hq3.out hg4)))
      go_wp2_with (first
        | (go_at_call 11; refine (a5.out _ hq4.out).mono ?_; rintro e w5 ⟨rfl, hg5⟩; have hq5 := Hid.mk' (K.out _ _ hq4.out hg5))
        | (go_at_call 9; refine (a6.out _ hq5.out).mono ?_; rintro e w6 ⟨rfl, hg6⟩))
      go_ret
      exact ⟨rfl, gt (gt (gt (gt (gt hg1 hg2) hg3) hg4) hg5) hg6⟩
  | some n =>
    obtain ⟨la, lb, hla, hlb, hsn, hn⟩ := coR_back hR
    have a1 : Hid (∀ w, P w → Calls Try.prog 9 #[.int .i32 l, .int .i32 m] w fun e w' => e = .returned (.tuple #[.int .i32 (n : Int), .bool true]) ∧ w.grownBy w' none) := Hid.mk' (fun w hw => C.compose l m hl hm w (some n) (Hid.mk' hR) hw)
    have a2 : Hid (∀ w, Calls Try.prog 10 #[.int .i32 l, .int .i32 m] w fun e w' => e = .returned (.tuple #[.int .i32 (n : Int), .bool true]) ∧ w.grownBy w' none) := Hid.mk' (fun w => compose_any l m w (some n) (Hid.mk' hR))
    have a5 : Hid (∀ w, P w → Calls Try.prog 11 #[.int .i32 (n : Int)] w fun e w' => e = .returned (.tuple #[.int .i32 l, .int .i32 m, .bool true]) ∧ w.grownBy w' none) := Hid.mk' (fun w hw => by
      have := C.split (n : Int) (by unfold I32; omega) w (some (la, lb)) (Hid.mk' hsn) hw
      simp only [spT] at this
      rw [← hla, ← hlb] at this
      exact this)
    have en : ((n : Int) != (n : Int)) = false := by simp
    clear hla hlb hsn
    cases hS : spR u with
    | none =>
      have a3 : Hid (∀ w, P w → Calls Try.prog 11 #[.int .i32 u] w fun e w' => e = .returned (.tuple #[.int .i32 0, .int .i32 0, .bool false]) ∧ w.grownBy w' none) := Hid.mk' (fun w hw => C.split u hu w none (Hid.mk' hS) hw)
      have a4 : Hid (∀ w, Calls Try.prog 12 #[.int .i32 u] w fun e w' => e = .returned (.tuple #[.int .i32 0, .int .i32 0, .bool false]) ∧ w.grownBy w' none) := Hid.mk' (fun w => split_any u w none (Hid.mk' hS))
      have a6 := z6
      clear hR hS C hw hl hm hu z5 z6
      go_enter Try.func3, Try.ntmps3
      go_upto_region 5 with (first
        | (go_at_call 9; refine (a1.out _ hq.out).mono ?_; rintro e w1 ⟨rfl, hg1⟩; have hq1 := Hid.mk' (K.out _ _ hq.out hg1))
        | (go_at_call 10; refine (a2.out _).mono ?_; rintro e w2 ⟨rfl, hg2⟩; have hq2 := Hid.mk' (K.out _ _ hq1.out hg2))
        | (go_at_call 11; refine (a3.out _ hq2.out).mono ?_; rintro e w3 ⟨rfl, hg3⟩; have hq3 := Hid.mk' (K.out _ _ hq2.out hg3))
        | (go_at_call 12; refine (a4.out _).mono ?_; rintro e w4 ⟨rfl, hg4⟩; have hq4 := Hid.mk' (K.out _ _ hq3.out hg4)))
      go_wp2_with (first
        | (go_at_call 11; refine (a5.out _ hq4.out).mono ?_; rintro e w5 ⟨rfl, hg5⟩; have hq5 := Hid.mk' (K.out _ _ hq4.out hg5))
        | (go_at_call 9; refine (a6.out _ hq5.out).mono ?_; rintro e w6 ⟨rfl, hg6⟩))
      go_ret
      exact ⟨rfl, gt (gt (gt (gt (gt hg1 hg2) hg3) hg4) hg5) hg6⟩
    | some q =>
      obtain ⟨x, y⟩ := q
      obtain ⟨k, hk, hco, hx, hy⟩ := spR_back hS
      have a3 : Hid (∀ w, P w → Calls Try.prog 11 #[.int .i32 u] w fun e w' => e = .returned (.tuple #[.int .i32 (x : Int), .int .i32 (y : Int), .bool true]) ∧ w.grownBy w' none) := Hid.mk' (fun w hw => C.split u hu w (some (x, y)) (Hid.mk' hS) hw)
      have a4 : Hid (∀ w, Calls Try.prog 12 #[.int .i32 u] w fun e w' => e = .returned (.tuple #[.int .i32 (x : Int), .int .i32 (y : Int), .bool true]) ∧ w.grownBy w' none) := Hid.mk' (fun w => split_any u w (some (x, y)) (Hid.mk' hS))
      have a6 : Hid (∀ w, P w → Calls Try.prog 9 #[.int .i32 (x : Int), .int .i32 (y : Int)] w fun e w' => e = .returned (.tuple #[.int .i32 u, .bool true]) ∧ w.grownBy w' none) := Hid.mk' (fun w hw => by
        have := C.compose (x : Int) (y : Int) (by unfold I32; omega) (by unfold I32; omega) w (some k) (Hid.mk' hco) hw
        rw [hk]
        exact this)
      have ex : ((x : Int) != (x : Int)) = false := by simp
      have ey : ((y : Int) != (y : Int)) = false := by simp
      clear hR hS hk hco C hw hl hm hu z5 z6
      go_enter Try.func3, Try.ntmps3
      go_upto_region 5 with (first
        | (go_at_call 9; refine (a1.out _ hq.out).mono ?_; rintro e w1 ⟨rfl, hg1⟩; have hq1 := Hid.mk' (K.out _ _ hq.out hg1))
        | (go_at_call 10; refine (a2.out _).mono ?_; rintro e w2 ⟨rfl, hg2⟩; have hq2 := Hid.mk' (K.out _ _ hq1.out hg2))
        | (go_at_call 11; refine (a3.out _ hq2.out).mono ?_; rintro e w3 ⟨rfl, hg3⟩; have hq3 := Hid.mk' (K.out _ _ hq2.out hg3))
        | (go_at_call 12; refine (a4.out _).mono ?_; rintro e w4 ⟨rfl, hg4⟩; have hq4 := Hid.mk' (K.out _ _ hq3.out hg4)))
      go_wp2_with (first
        | (go_at_call 11; refine (a5.out _ hq4.out).mono ?_; rintro e w5 ⟨rfl, hg5⟩; have hq5 := Hid.mk' (K.out _ _ hq4.out hg5))
        | (go_at_call 9; refine (a6.out _ hq5.out).mono ?_; rintro e w6 ⟨rfl, hg6⟩))
      go_ret
      exact ⟨rfl, gt (gt (gt (gt (gt hg1 hg2) hg3) hg4) hg5) hg6⟩
theorem seV_is (R : Option (List UInt8)) : ∃ e s, seV R = vpV e s := by
  cases R
  · exact ⟨_, _, rfl⟩
  · exact ⟨_, _, rfl⟩
set_option maxRecDepth 100000 in
set_option maxHeartbeats 1000000 in
theorem sets_walk {P : World → Prop} (C : Con P) (u : Int) (hu : I32 u) (w : World) (hw : P w) : Calls Try.prog 5 #[.int .i32 u] w fun e w' => e = .returned (.bool true) ∧ w.grownBy w' none := by
  have hq := Hid.mk' hw
  have a1 := Hid.mk' (fun w hw => C.set u hu w hw)
  have a2 := Hid.mk' (fun w => setRef_any u w)
  obtain ⟨x, s, hs⟩ := seV_is (seR u)
  rw [hs] at a1 a2
  clear hw C hs
  go_enter Try.func5, Try.ntmps5
  go_wp2_with (first
    | (go_at_call 19; refine (a1.out _ hq.out).mono ?_; rintro e w1 ⟨rfl, hg1⟩)
    | (go_at_call 20; refine (a2.out _).mono ?_; rintro e w2 ⟨rfl, hg2⟩))
  go_ret
  exact ⟨rfl, gt hg1 hg2⟩
end Go.Proofs.Ytfehmbicolllkaa.C13
