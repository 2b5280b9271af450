/- For every input of bulk at most 1048576 FlowOut returns true and leaves its arguments as they were: the condition is the size alone. -/
import Derived.Test.YteollicbaahmpaaRows
import Derived.WalkKit
import Derived.ProofKit
import Derived.OpenShut
import Derived.ShutString
import Derived.ChangeOld
import Derived.Below
import Derived.JoinedCond
import Derived.Deep.Strs
import Derived.Test.YteollicbaahmpaaOutMoves
namespace Go.Proofs.Yteollicbaahmpaa.flowOut
open Go.ChangeShapes Go.WideShapes Go.ChangeAt Go.RowKit Go.Proofs.Yteollicbaahmpaa.Mem Go.Deep
set_option linter.unusedVariables false
attribute [local go_sem ↓] Go.wp_at_zero Go.wp_at_succ

theorem own : ownKnob Try.prog.godebug = none := by kernel_rfl
theorem laidOut : laidOutB Try.prog = true := by kernel_rfl

set_option maxHeartbeats 4000000 in
set_option maxRecDepth 100000 in
theorem walk (room : Int) (a1 : Option Addr) (len1 cap1 : Nat) (Sx : Nat → ByteArray) (w : World) (hr0 : -9223372036854775808 ≤ room) (hr1 : room ≤ 9223372036854775807) (hlen : len1 ≤ 1048576)
    (hS : ∀ j, j < len1 → (Sx j).size ≤ 1048576 ∧ ∃ b o, a1 = some ⟨b, o, none⟩ ∧ b < w.heap.size ∧ w.cell? ⟨b, o + j, none⟩ = some (.string (Sx j))) :
    Calls Try.prog 4 #[.int .i64 room, .slice a1 len1 cap1] w fun e w' => e = .returned (.bool true) ∧ Below w.heap.size w w' := by
  have HS : Hid (∀ j, j < len1 → (Sx j).size ≤ 1048576 ∧ ∃ b o, a1 = some ⟨b, o, none⟩ ∧ b < w.heap.size ∧ w.cell? ⟨b, o + j, none⟩ = some (.string (Sx j))) := hS
  clear hS
  go_enter Try.func4, Try.ntmps4
  go_upto_region 2 with (first
    | (go_at_call 14; refine (newOut_any room _ hr1).mono ?_; rintro e w1 ⟨d, rfl, hO1, hg1, hd1⟩))
  go_cut [6] (fun s6 wx => ∃ q, s6 = .pointer (some ⟨q, 0, none⟩) ∧ RefOut wx q none 0 [] (max room 0) ∧ w1.grownBy wx none ∧ w1.heap.size ≤ q)
  case first =>
    rcases (show room ≤ 0 ∨ 0 < room by omega) with hrm | hrm
    · have HM : Hid (max room 0 = 0) := by show max room 0 = 0; omega
      go_wp2
      go_meet
      rw [HM.out]
      exact ⟨w1.heap.size, rfl, refOut_made w1 0 (by omega) (by omega), World.grownBy_alloc _ _ _, Nat.le_refl _⟩
    · have HM : Hid (max room 0 = room) := by show max room 0 = room; omega
      go_wp2
      go_meet
      rw [HM.out]
      exact ⟨w1.heap.size, rfl, refOut_made w1 room (by omega) (by omega), World.grownBy_alloc _ _ _, Nat.le_refl _⟩
  case rest =>
    obtain ⟨q, rfl, hR2, hg2, hq1⟩ := hcut
    have hO2 := hO1.kept0 hg2
    obtain ⟨R, HR⟩ : ∃ R, Hid (max room 0 = R) := ⟨_, rfl⟩
    rw [HR.out] at hO2 hR2
    have hd : w.heap.size ≤ d := hd1
    have hq : w.heap.size ≤ q := Nat.le_trans hg1.size hq1
    have B1 := (Below.refl w.heap.size w).grown hg1 (Nat.le_refl _) (by simp)
    have B2 := B1.grown hg2 B1.size (by simp)
    clear hO1 hg1 hg2 hd1 hq1 B1 HR
    go_wp2
    go_loopw [7] (fun i wr => ∃ (k : Nat) (T : List UInt8) (x : Int) (zo yo : Option Addr) (zc yc : Nat), i = .int .i64 k ∧ k ≤ 60 ∧ k ≤ len1 ∧ Hid (T.length ≤ k * 1048576) ∧ OutAt wr d zo zc T x ∧ RefOut wr q yo yc T x ∧ Below w.heap.size w wr ∧ (∀ g, blk zo = some g → blk yo ≠ some g) ∧ (∀ g, blk zo = some g → w.heap.size ≤ g) ∧ (∀ g, blk yo = some g → w.heap.size ≤ g)) (fun i _ => 60 - (intOf i).toNat)
    case atStart => exact ⟨0, [], R, none, none, 0, 0, rfl, by omega, by omega, by show ([] : List UInt8).length ≤ _; simp, hO2, hR2, B2, by simp [blk], by simp [blk], by simp [blk]⟩
    case round =>
    clear hO2 hR2 B2
    obtain ⟨k, T, x, zo, yo, zc, yc, rfl, hk60, hkl, HT, hO, hR, hbel, hsep, hlow, hlowy⟩ := hrel
    have hO' := hO.kept0 (drew_grown wr)
    have hR' := hR.kept0 (drew_grown wr)
    have B' := hbel.drew
    by_cases hlt : k < len1 ∧ k < 60
    · obtain ⟨hk1, hk3⟩ := hlt
      obtain ⟨hsz, sb, so, rfl, hsb, hcell⟩ := HS.out k hk1
      have hs5 := (B'.cell (p := ⟨sb, so + k, none⟩) hsb).trans hcell
      have k0 : (0 : Int) ≤ (k : Int) := by omega
      have k1 : (k : Int) < (len1 : Int) := by omega
      go_upto_region 8 with fail
      go_cut [49] (fun s49 wx => s49 = .bool false ∧ ∃ (T' : List UInt8) (x' : Int) (zo' yo' : Option Addr) (zc' yc' : Nat), Hid (T'.length ≤ (k + 1) * 1048576) ∧ OutAt wx d zo' zc' T' x' ∧ RefOut wx q yo' yc' T' x' ∧ Below w.heap.size w wx ∧ (∀ g, blk zo' = some g → blk yo' ≠ some g) ∧ (∀ g, blk zo' = some g → w.heap.size ≤ g) ∧ (∀ g, blk yo' = some g → w.heap.size ≤ g))
      case first =>
              by_cases hfit : ((Sx k).size : Int) ≤ x
              · have e15 := hR'.c1
                refine wp_region_held_drew (S := fun w' => w'.cell? ⟨sb, so + k, none⟩ = some (.string (Sx k))) (by kernel_rfl) hs5 (fun hHeld => ?_)
                refine wpAnyH_take (i := 0) (v := ?_) rfl (by kernel_rfl) (by kernel_rfl) (by kernel_rfl) (fun _ _ _ h => h) (Or.inl ⟨by rfl, ?_⟩) (by assumption) ?_; rotate_left
                · (intro w hSw; (try dsimp only at hSw); go_simp; try with_reducible rfl)
                try simp only [List.getElem_toArray, List.getElem_cons_zero, Act.put, List.setIfInBounds_toArray, List.set_cons_zero, List.set_cons_succ]
                refine wpAnyH_take (i := 1) (v := ?_) rfl (by kernel_rfl) (by kernel_rfl) (by kernel_rfl) (fun _ _ _ h => h) (Or.inl ⟨by rfl, ?_⟩) (by assumption) ?_; rotate_left
                · (intro w hSw; (try dsimp only at hSw); go_simp; try with_reducible rfl)
                try simp only [List.getElem_toArray, List.getElem_cons_zero, List.getElem_cons_succ, Act.put, List.setIfInBounds_toArray, List.set_cons_zero, List.set_cons_succ]
                refine wpAnyH_take (i := 2) (v := ?_) rfl (by kernel_rfl) (by kernel_rfl) (by kernel_rfl) (fun _ _ _ h => h) (Or.inl ⟨by rfl, ?_⟩) (by assumption) ?_; rotate_left
                · (intro w hSw; (try dsimp only at hSw); go_simp; try with_reducible rfl)
                try simp only [List.getElem_toArray, List.getElem_cons_zero, List.getElem_cons_succ, Act.put, List.setIfInBounds_toArray, List.set_cons_zero, List.set_cons_succ]
                refine wpAnyH_take (i := 3) (v := ?_) rfl (by kernel_rfl) (by kernel_rfl) (by kernel_rfl) (fun _ _ _ h => h) (Or.inl ⟨by rfl, ?_⟩) (by assumption) ?_; rotate_left
                · (intro w hSw; (try dsimp only at hSw); go_simp; try with_reducible rfl)
                try simp only [List.getElem_toArray, List.getElem_cons_zero, List.getElem_cons_succ, Act.put, List.setIfInBounds_toArray, List.set_cons_zero, List.set_cons_succ]
                refine wpAnyH_take (i := 4) (v := ?_) rfl (by kernel_rfl) (by kernel_rfl) (by kernel_rfl) (fun _ _ _ h => h) (Or.inl ⟨by rfl, ?_⟩) (by assumption) ?_; rotate_left
                · (intro w hSw; (try dsimp only at hSw); go_simp; try with_reducible rfl)
                try simp only [List.getElem_toArray, List.getElem_cons_zero, List.getElem_cons_succ, Act.put, List.setIfInBounds_toArray, List.set_cons_zero, List.set_cons_succ]
                refine wpAnyH_take (i := 6) (v := ?_) rfl (by kernel_rfl) (by kernel_rfl) (by kernel_rfl) (fun _ _ _ h => h) (Or.inl ⟨by rfl, ?_⟩) (by assumption) ?_; rotate_left
                · (intro w hSw; (try dsimp only at hSw); go_simp; try with_reducible rfl)
                try simp only [List.getElem_toArray, List.getElem_cons_zero, List.getElem_cons_succ, Act.put, List.setIfInBounds_toArray, List.set_cons_zero, List.set_cons_succ]
                refine wpAnyH_take (i := 7) (v := ?_) rfl (by kernel_rfl) (by kernel_rfl) (by kernel_rfl) (fun _ _ _ h => h) (Or.inl ⟨by rfl, ?_⟩) (by assumption) ?_; rotate_left
                · (intro w hSw; (try dsimp only at hSw); go_simp; try with_reducible rfl)
                try simp only [List.getElem_toArray, List.getElem_cons_zero, List.getElem_cons_succ, Act.put, List.setIfInBounds_toArray, List.set_cons_zero, List.set_cons_succ]
                refine wpAnyH_take (i := 8) (v := ?_) rfl (by kernel_rfl) (by kernel_rfl) (by kernel_rfl) (fun _ _ _ h => h) (Or.inl ⟨by rfl, ?_⟩) (by assumption) ?_; rotate_left
                · (intro w hSw; (try dsimp only at hSw); go_simp; try with_reducible rfl)
                try simp only [List.getElem_toArray, List.getElem_cons_zero, List.getElem_cons_succ, Act.put, List.setIfInBounds_toArray, List.set_cons_zero, List.set_cons_succ]
                refine wpAnyH_take (i := 9) (v := ?_) rfl (by kernel_rfl) (by kernel_rfl) (by kernel_rfl) (fun _ _ _ h => h) (Or.inl ⟨by rfl, ?_⟩) (by assumption) ?_; rotate_left
                · (intro w hSw; (try dsimp only at hSw); go_simp; try with_reducible rfl)
                try simp only [List.getElem_toArray, List.getElem_cons_zero, List.getElem_cons_succ, Act.put, List.setIfInBounds_toArray, List.set_cons_zero, List.set_cons_succ]
                refine wpAnyH_take (i := 10) (v := ?_) rfl (by kernel_rfl) (by kernel_rfl) (by kernel_rfl) (fun _ _ _ h => h) (Or.inl ⟨by rfl, ?_⟩) (by assumption) ?_; rotate_left
                · (intro w hSw; (try dsimp only at hSw); go_simp; try with_reducible rfl)
                try simp only [List.getElem_toArray, List.getElem_cons_zero, List.getElem_cons_succ, Act.put, List.setIfInBounds_toArray, List.set_cons_zero, List.set_cons_succ]
                refine wpAnyH_ready (rs := [5]) (by kernel_rfl) (by simp) ?_
                refine AllReadyH.cons rfl (fun K hK => ?_) AllReadyH.nil
                go_simp
                refine (put_yes _ d zo zc T x (Sx k) hO' hfit (len_fit HT.out hk60 hsz)).mono ?_; rintro e w6 ⟨zo', zc', rfl, hO6, hk6, hz6⟩; have hR6 := ref_put hR' hO' hk6 hsep; have hsep6 := sep_left hR'.own hsep hz6; have hlow6 := put_low B'.size hlow hz6; have B6 := Kept.below B' hk6 B'.size (by rintro j (rfl | e); exact hd; exact hlow j e); have hs6 := (B6.cell (p := ⟨sb, so + k, none⟩) hsb).trans hcell; try dsimp only
                refine hK.out _ _ hs6 (fun hHeld => ?_)
                clear hK K
                try simp only [List.getElem_toArray, List.getElem_cons_zero, List.getElem_cons_succ, Act.put, List.setIfInBounds_toArray, List.set_cons_zero, List.set_cons_succ]
                refine wpAnyH_ready (rs := [11]) (by kernel_rfl) (by simp) ?_
                refine AllReadyH.cons rfl (fun K hK => ?_) AllReadyH.nil
                go_simp
                refine (refPut_yes _ q yo yc T x (Sx k) hR6 hfit (len_fit HT.out hk60 hsz)).mono ?_; rintro e w7 ⟨yo', yc', rfl, hR7, hk7, hy7⟩; have hO7 := out_put hO6 hR6 hk7 hsep6; have hsep7 := sep_right hO6.own hsep6 hy7; have hlow7 := put_low B6.size hlowy hy7; have B7 := Kept.below B6 hk7 B6.size (by rintro j (rfl | e); exact hq; exact hlowy j e); have hs7 := (B7.cell (p := ⟨sb, so + k, none⟩) hsb).trans hcell; try dsimp only
                refine hK.out _ _ hs7 (fun hHeld => ?_)
                clear hK K
                try simp only [List.getElem_toArray, List.getElem_cons_zero, List.getElem_cons_succ, Act.put, List.setIfInBounds_toArray, List.set_cons_zero, List.set_cons_succ]
                refine wpAnyH_mono (T := fun w' => w'.cell? ⟨sb, so + k, none⟩ = some (.string (Sx k)) ∧ w'.cell? ⟨q, 1, none⟩ = some (.int .i64 (x - (Sx k).size))) (fun _ h => h.1) _ _ _ _ ?_
                have hHeld2 : (fun w' => w'.cell? ⟨sb, so + k, none⟩ = some (.string (Sx k)) ∧ w'.cell? ⟨q, 1, none⟩ = some (.int .i64 (x - (Sx k).size))) w7 := ⟨hs7, hR7.c1⟩
                refine wpAnyH_take (i := 12) (v := ?_) rfl (by kernel_rfl) (by kernel_rfl) (by kernel_rfl) (fun _ _ _ h => h) (Or.inl ⟨by rfl, ?_⟩) (by assumption) ?_; rotate_left
                · (intro w hSw; (try dsimp only at hSw); go_simp; try with_reducible rfl)
                try simp only [List.getElem_toArray, List.getElem_cons_zero, List.getElem_cons_succ, Act.put, List.setIfInBounds_toArray, List.set_cons_zero, List.set_cons_succ]
                refine wpAnyH_take (i := 13) (v := ?_) rfl (by kernel_rfl) (by kernel_rfl) (by kernel_rfl) (fun _ _ _ h => h) (Or.inl ⟨by rfl, ?_⟩) (by assumption) ?_; rotate_left
                · (intro w hSw; (try dsimp only at hSw); go_simp; try with_reducible rfl)
                try simp only [List.getElem_toArray, List.getElem_cons_zero, List.getElem_cons_succ, Act.put, List.setIfInBounds_toArray, List.set_cons_zero, List.set_cons_succ]
                refine wpAnyH_take (i := 14) (v := ?_) rfl (by kernel_rfl) (by kernel_rfl) (by kernel_rfl) (fun _ _ _ h => h) (Or.inl ⟨by rfl, ?_⟩) (by assumption) ?_; rotate_left
                · (intro w hSw; (try dsimp only at hSw); go_simp; try with_reducible rfl)
                try simp only [List.getElem_toArray, List.getElem_cons_zero, List.getElem_cons_succ, Act.put, List.setIfInBounds_toArray, List.set_cons_zero, List.set_cons_succ]
                refine wpAnyH_take (i := 16) (v := ?_) rfl (by kernel_rfl) (by kernel_rfl) (by kernel_rfl) (fun _ _ _ h => h) (Or.inl ⟨by rfl, ?_⟩) (by assumption) ?_; rotate_left
                · (intro w hSw; (try dsimp only at hSw); go_simp; try with_reducible rfl)
                try simp only [List.getElem_toArray, List.getElem_cons_zero, List.getElem_cons_succ, Act.put, List.setIfInBounds_toArray, List.set_cons_zero, List.set_cons_succ]
                refine wpAnyH_take (i := 17) (v := ?_) rfl (by kernel_rfl) (by kernel_rfl) (by kernel_rfl) (fun _ _ _ h => h) (Or.inl ⟨by rfl, ?_⟩) (by assumption) ?_; rotate_left
                · (intro w hSw; (try dsimp only at hSw); go_simp; try with_reducible rfl)
                try simp only [List.getElem_toArray, List.getElem_cons_zero, List.getElem_cons_succ, Act.put, List.setIfInBounds_toArray, List.set_cons_zero, List.set_cons_succ]
                refine wpAnyH_take (i := 18) (v := ?_) rfl (by kernel_rfl) (by kernel_rfl) (by kernel_rfl) (fun _ _ _ h => h) (Or.inl ⟨by rfl, ?_⟩) (by assumption) ?_; rotate_left
                · (intro w hSw; (try dsimp only at hSw); go_simp; try with_reducible rfl)
                try simp only [List.getElem_toArray, List.getElem_cons_zero, List.getElem_cons_succ, Act.put, List.setIfInBounds_toArray, List.set_cons_zero, List.set_cons_succ]
                refine wpAnyH_take (i := 19) (v := ?_) rfl (by kernel_rfl) (by kernel_rfl) (by kernel_rfl) (fun _ _ _ h => h) (Or.inl ⟨by rfl, ?_⟩) (by assumption) ?_; rotate_left
                · (intro w hSw; (try dsimp only at hSw); go_simp; try with_reducible rfl)
                try simp only [List.getElem_toArray, List.getElem_cons_zero, List.getElem_cons_succ, Act.put, List.setIfInBounds_toArray, List.set_cons_zero, List.set_cons_succ]
                refine wpAnyH_ready (rs := [15]) (by kernel_rfl) (by simp) ?_
                refine AllReadyH.cons rfl (fun K hK => ?_) AllReadyH.nil
                go_simp
                refine (room_any w7 d zo' zc' _ _ hO7).mono ?_; rintro e w' ⟨rfl, hw⟩; subst w'; try dsimp only
                refine hK.out _ _ hHeld2 (fun hHeld => ?_)
                clear hK K
                try simp only [List.getElem_toArray, List.getElem_cons_zero, List.getElem_cons_succ, Act.put, List.setIfInBounds_toArray, List.set_cons_zero, List.set_cons_succ]
                refine wpAnyH_take (i := 20) (v := ?_) rfl (by kernel_rfl) (by kernel_rfl) (by kernel_rfl) (fun _ _ _ h => h) (Or.inl ⟨by rfl, ?_⟩) (by assumption) ?_; rotate_left
                · (intro w hSw; (try dsimp only at hSw); go_simp; try with_reducible rfl)
                try simp only [List.getElem_toArray, List.getElem_cons_zero, List.getElem_cons_succ, Act.put, List.setIfInBounds_toArray, List.set_cons_zero, List.set_cons_succ]
                refine wpAnyH_take (i := 21) (v := ?_) rfl (by kernel_rfl) (by kernel_rfl) (by kernel_rfl) (fun _ _ _ h => h) (Or.inl ⟨by rfl, ?_⟩) (by assumption) ?_; rotate_left
                · (intro w hSw; (try dsimp only at hSw); go_simp; try with_reducible rfl)
                try simp only [List.getElem_toArray, List.getElem_cons_zero, List.getElem_cons_succ, Act.put, List.setIfInBounds_toArray, List.set_cons_zero, List.set_cons_succ]
                refine wpAnyH_done (by kernel_rfl) ?_ _
                all_goals (go_wp2_with fail; go_meet; exact ⟨rfl, T ++ (Sx k).data.toList, _, zo', yo', zc', yc', more_len HT.out hsz, hO7, hR7, B7, hsep7, hlow6, hlow7⟩)
              · have hno : x < ((Sx k).size : Int) := by omega
                have e1 := hR'.c1
                clear hfit
                go_region_held3 (fun w' => w'.cell? ⟨sb, so + k, none⟩ = some (.string (Sx k)) ∧ w'.cell? ⟨q, 1, none⟩ = some (.int .i64 x)) (go_keep)
                  (first
                  | (go_at_call 15; refine (put_no _ d zo zc T x (Sx k) hO' hno).mono ?_; rintro e w' ⟨rfl, hw⟩; subst w')
                  | (go_at_call 16; refine (refPut_no _ q yo yc T x (Sx k) hR' hno).mono ?_; rintro e w' ⟨rfl, hw⟩; subst w')
                  | (go_at_call 17; refine (room_any _ d zo zc T x hO').mono ?_; rintro e w' ⟨rfl, hw⟩; subst w'))
                all_goals (go_wp2_with fail; go_meet; exact ⟨rfl, T, x, zo, yo, zc, yc, len_more HT.out, hO', hR', B', hsep, hlow, hlowy⟩)
      case rest =>
        obtain ⟨rfl, T', x', zo', yo', zc', yc', HT', hO6, hR6, B6, hsep6, hlow6, hlowy6⟩ := hcut
        clear hO hR hbel hsep hlow hlowy hO' hR' B' HT hs5 hcell
        have hdB : d < wc.heap.size := hO6.lt
        have hqB : q < wc.heap.size := hR6.lt
        have hzB : Hid (∀ g, blk zo' = some g → g < wc.heap.size) := fun g e => hO6.own.lt e
        have hyB : Hid (∀ g, blk yo' = some g → g < wc.heap.size) := fun g e => hR6.own.lt e
        have hlo := B6.size
        have hTb : T'.length ≤ 140737488351232 := len_big HT'.out (by omega)
        go_upto_region 11 with (first
          | (go_at_call 18; refine (bytes_any _ d zo' zc' T' x' hO6).mono ?_; rintro e w3 ⟨bo, bc, rfl, hb3, hg3, hbf⟩; have hO3 := hO6.kept0 hg3; have hR3 := hR6.kept0 hg3; have B3 := B6.grown hg3 B6.size (by simp)))
        have hcb := conv_is hb3.drew T'.length rfl (str T') rfl
        have hR3' := hR3.kept0 (drew_grown _)
        have hcr := conv_bytes hR3'.own.bytes yc' T'.length rfl
        have e0 := hR3'.c0
        go_region_held3 (fun w' => w'.cell? ⟨q, 0, none⟩ = some (.slice yo' T'.length yc') ∧ (convert 22 9 (.slice yo' T'.length yc')).run Try.prog w' = .ok (.string (str T')) w' ∧ (convert 22 9 (.slice bo T'.length bc)).run Try.prog w' = .ok (.string (str T')) w') (go_keep) (fail)
        have hO4 := hO3.kept0 (drew_grown _)
        have hb4 := hb3.drew
        have B4 := B3.drew
        have hbf' : Hid (∀ g, blk bo = some g → wc.heap.size ≤ g) := hbf
        obtain ⟨H, hH⟩ : ∃ H, H = wc.heap.size := ⟨_, rfl⟩
        rw [← hH] at hdB hqB hzB hyB hlo hbf'
        clear hO3 hR3 hb3 B3 hg3 hO6 hR6 B6 hbf hcr hcb e0 hH
        go_wp2
        go_loopw [9] (fun i wq => ∃ (j : Nat) (X : List UInt8), i = .int .i64 j ∧ j ≤ T'.length ∧ Hid (X.length = T'.length) ∧ Own wq bo bc X ∧ w3.drew.grownBy wq (blk bo)) (fun i _ => T'.length - (intOf i).toNat)
        case atStart => exact ⟨0, T', rfl, by omega, rfl, hb4, grownBy_refl _ _⟩
        case round =>
          obtain ⟨j, X, rfl, hj, hX, hoX, hgX⟩ := hrel
          by_cases hjl : j < T'.length
          · have hjX : j < X.length := by rw [hX.out]; exact hjl
            obtain ⟨gx, rfl⟩ := own_some hoX (by omega)
            have hc := hoX.cell j hjX
            have hf := hoX.free j
            have hu : (X[j].toNat : Int) ≤ 255 := by have := X[j].toNat_lt; omega
            obtain ⟨u, hu2⟩ : ∃ u : Nat, Hid (X[j].toNat = u) := ⟨X[j].toNat, (rfl : X[j].toNat = X[j].toNat)⟩
            rw [hu2.out] at hc hu
            go_wp2
            obtain ⟨M', hM', ho'⟩ := hoX.put j hjX (((u : Int) + 1) % 256) (by omega) (by omega)
            go_roundw
            case rel => exact ⟨j + 1, M', by go_num, by omega, by show M'.length = _; rw [hM', hX.out], ho', grownBy_trans hgX (grownBy_setCell _ ⟨gx, j, none⟩ _)⟩
            case measure => simp [intOf]; omega
          · have hO5 := hO4.newer hgX hdB hzB.out hbf'.out
            have hR5 := hR3'.newer hgX hqB hyB.out hbf'.out
            have B5 := B4.grown hgX B4.size (by intro y e; have := hbf'.out y e; omega)
            clear hO4 hR3' B4 hgX hoX hb4 hX
            go_wp2
            go_roundw
            case rel => exact ⟨k + 1, T', x', zo', yo', zc', yc', by go_num, by omega, by omega, HT', hO5, hR5, B5, hsep6, hlow6, hlowy6⟩
            case measure => simp [intOf]; omega
    · have hcr := conv_bytes hR'.own.bytes yc T.length rfl
      rcases (show ¬ k < len1 ∨ (k < len1 ∧ ¬ k < 60) by omega) with hno | ⟨hyes, hno⟩
      all_goals
      go_wp2_with fail
      refine wp_region_held_drew (S := fun w' => (w'.cell? ⟨q, 0, none⟩ = some (.slice yo T.length yc) ∧ w'.cell? ⟨q, 1, none⟩ = some (.int .i64 x)) ∧ (convert 22 9 (.slice yo T.length yc)).run Try.prog w' = .ok (.string (str T)) w') (by kernel_rfl) ⟨⟨hR'.c0, hR'.c1⟩, hcr⟩ (fun hHeld => ?_)
      refine wpAnyH_take (i := 0) (v := ?_) rfl (by kernel_rfl) (by kernel_rfl) (by kernel_rfl) (fun _ _ _ h => h) (Or.inl ⟨by rfl, ?_⟩) (by assumption) ?_; rotate_left
      · (intro w hSw; (try dsimp only at hSw); go_simp; try with_reducible rfl)
      try simp only [List.getElem_toArray, List.getElem_cons_zero, Act.put, List.setIfInBounds_toArray, List.set_cons_zero, List.set_cons_succ]
      refine wpAnyH_take (i := 2) (v := ?_) rfl (by kernel_rfl) (by kernel_rfl) (by kernel_rfl) (fun _ _ _ h => h) (Or.inl ⟨by rfl, ?_⟩) (by assumption) ?_; rotate_left
      · (intro w hSw; (try dsimp only at hSw); go_simp; try with_reducible rfl)
      try simp only [List.getElem_toArray, List.getElem_cons_zero, List.getElem_cons_succ, Act.put, List.setIfInBounds_toArray, List.set_cons_zero, List.set_cons_succ]
      refine wpAnyH_take (i := 3) (v := ?_) rfl (by kernel_rfl) (by kernel_rfl) (by kernel_rfl) (fun _ _ _ h => h) (Or.inl ⟨by rfl, ?_⟩) (by assumption) ?_; rotate_left
      · (intro w hSw; (try dsimp only at hSw); go_simp; try with_reducible rfl)
      try simp only [List.getElem_toArray, List.getElem_cons_zero, List.getElem_cons_succ, Act.put, List.setIfInBounds_toArray, List.set_cons_zero, List.set_cons_succ]
      refine wpAnyH_take (i := 4) (v := ?_) rfl (by kernel_rfl) (by kernel_rfl) (by kernel_rfl) (fun _ _ _ h => h) (Or.inl ⟨by rfl, ?_⟩) (by assumption) ?_; rotate_left
      · (intro w hSw; (try dsimp only at hSw); go_simp; try with_reducible rfl)
      try simp only [List.getElem_toArray, List.getElem_cons_zero, List.getElem_cons_succ, Act.put, List.setIfInBounds_toArray, List.set_cons_zero, List.set_cons_succ]
      refine wpAnyH_take (i := 5) (v := ?_) rfl (by kernel_rfl) (by kernel_rfl) (by kernel_rfl) (fun _ _ _ h => h) (Or.inl ⟨by rfl, ?_⟩) (by assumption) ?_; rotate_left
      · (intro w hSw; (try dsimp only at hSw); go_simp; try with_reducible rfl)
      try simp only [List.getElem_toArray, List.getElem_cons_zero, List.getElem_cons_succ, Act.put, List.setIfInBounds_toArray, List.set_cons_zero, List.set_cons_succ]
      refine wpAnyH_ready (rs := [1]) (by kernel_rfl) (by simp) ?_
      refine AllReadyH.cons rfl (fun K hK => ?_) AllReadyH.nil
      go_simp
      refine (room_any _ d zo zc T x hO').mono ?_; rintro e w' ⟨rfl, hw⟩; subst w'; try dsimp only
      refine hK.out _ _ hHeld (fun hHeld => ?_)
      clear hK K
      try simp only [List.getElem_toArray, List.getElem_cons_zero, List.getElem_cons_succ, Act.put, List.setIfInBounds_toArray, List.set_cons_zero, List.set_cons_succ]
      refine wpAnyH_take (i := 6) (v := ?_) rfl (by kernel_rfl) (by kernel_rfl) (by kernel_rfl) (fun _ _ _ h => h) (Or.inl ⟨by rfl, ?_⟩) (by assumption) ?_; rotate_left
      · (intro w hSw; (try dsimp only at hSw); go_simp; try with_reducible rfl)
      try simp only [List.getElem_toArray, List.getElem_cons_zero, List.getElem_cons_succ, Act.put, List.setIfInBounds_toArray, List.set_cons_zero, List.set_cons_succ]
      refine wpAnyH_take (i := 7) (v := ?_) rfl (by kernel_rfl) (by kernel_rfl) (by kernel_rfl) (fun _ _ _ h => h) (Or.inl ⟨by rfl, ?_⟩) (by assumption) ?_; rotate_left
      · (intro w hSw; (try dsimp only at hSw); go_simp; try with_reducible rfl)
      try simp only [List.getElem_toArray, List.getElem_cons_zero, List.getElem_cons_succ, Act.put, List.setIfInBounds_toArray, List.set_cons_zero, List.set_cons_succ]
      refine wpAnyH_take (i := 8) (v := ?_) rfl (by kernel_rfl) (by kernel_rfl) (by kernel_rfl) (fun _ _ _ h => h) (Or.inl ⟨by rfl, ?_⟩) (by assumption) ?_; rotate_left
      · (intro w hSw; (try dsimp only at hSw); go_simp; try with_reducible rfl)
      try simp only [List.getElem_toArray, List.getElem_cons_zero, List.getElem_cons_succ, Act.put, List.setIfInBounds_toArray, List.set_cons_zero, List.set_cons_succ]
      refine wpAnyH_take (i := 11) (v := ?_) rfl (by kernel_rfl) (by kernel_rfl) (by kernel_rfl) (fun _ _ _ h => h) (Or.inl ⟨by rfl, ?_⟩) (by assumption) ?_; rotate_left
      · (intro w hSw; (try dsimp only at hSw); go_simp; try with_reducible rfl)
      try simp only [List.getElem_toArray, List.getElem_cons_zero, List.getElem_cons_succ, Act.put, List.setIfInBounds_toArray, List.set_cons_zero, List.set_cons_succ]
      refine wpAnyH_take (i := 12) (v := ?_) rfl (by kernel_rfl) (by kernel_rfl) (by kernel_rfl) (fun _ _ _ h => h) (Or.inl ⟨by rfl, ?_⟩) (by assumption) ?_; rotate_left
      · (intro w hSw; (try dsimp only at hSw); go_simp; try with_reducible rfl)
      try simp only [List.getElem_toArray, List.getElem_cons_zero, List.getElem_cons_succ, Act.put, List.setIfInBounds_toArray, List.set_cons_zero, List.set_cons_succ]
      refine wpAnyH_take (i := 13) (v := ?_) rfl (by kernel_rfl) (by kernel_rfl) (by kernel_rfl) (fun _ _ _ h => h) (Or.inl ⟨by rfl, ?_⟩) (by assumption) ?_; rotate_left
      · (intro w hSw; (try dsimp only at hSw); go_simp; try with_reducible rfl)
      try simp only [List.getElem_toArray, List.getElem_cons_zero, List.getElem_cons_succ, Act.put, List.setIfInBounds_toArray, List.set_cons_zero, List.set_cons_succ]
      refine wpAnyH_take (i := 14) (v := ?_) rfl (by kernel_rfl) (by kernel_rfl) (by kernel_rfl) (fun _ _ _ h => h) (Or.inl ⟨by rfl, ?_⟩) (by assumption) ?_; rotate_left
      · (intro w hSw; (try dsimp only at hSw); go_simp; try with_reducible rfl)
      try simp only [List.getElem_toArray, List.getElem_cons_zero, List.getElem_cons_succ, Act.put, List.setIfInBounds_toArray, List.set_cons_zero, List.set_cons_succ]
      refine wpAnyH_take (i := 15) (v := ?_) rfl (by kernel_rfl) (by kernel_rfl) (by kernel_rfl) (fun _ _ _ h => h) (Or.inl ⟨by rfl, ?_⟩) (by assumption) ?_; rotate_left
      · (intro w hSw; (try dsimp only at hSw); go_simp; try with_reducible rfl)
      try simp only [List.getElem_toArray, List.getElem_cons_zero, List.getElem_cons_succ, Act.put, List.setIfInBounds_toArray, List.set_cons_zero, List.set_cons_succ]
      refine wpAnyH_ready (rs := [9]) (by kernel_rfl) (by simp) ?_
      refine AllReadyH.cons rfl (fun K hK => ?_) AllReadyH.nil
      go_simp
      refine (bytes_any _ d zo zc T x hO').mono ?_; rintro e w7 ⟨bo, bc, rfl, hb7, hg7, hbf⟩; have hcv := conv_is hb7 T.length rfl (str T) rfl; have hR7 := hR'.kept0 hg7; have hcr7 := conv_bytes hR7.own.bytes yc T.length rfl; have B7 := hbel.grown (grownBy_of_drew hg7) hbel.size (by simp); try dsimp only
      refine hK.out _ _ ⟨⟨hR7.c0, hR7.c1⟩, hcr7⟩ (fun hHeld => ?_)
      clear hK K
      try simp only [List.getElem_toArray, List.getElem_cons_zero, List.getElem_cons_succ, Act.put, List.setIfInBounds_toArray, List.set_cons_zero, List.set_cons_succ]
      refine wpAnyH_mono (T := fun w' => ((w'.cell? ⟨q, 0, none⟩ = some (.slice yo T.length yc) ∧ w'.cell? ⟨q, 1, none⟩ = some (.int .i64 x)) ∧ (convert 22 9 (.slice yo T.length yc)).run Try.prog w' = .ok (.string (str T)) w') ∧ (convert 22 9 (.slice bo T.length bc)).run Try.prog w' = .ok (.string (str T)) w') (fun _ h => h.1) _ _ _ _ ?_
      have hHeld2 : (fun w' => ((w'.cell? ⟨q, 0, none⟩ = some (.slice yo T.length yc) ∧ w'.cell? ⟨q, 1, none⟩ = some (.int .i64 x)) ∧ (convert 22 9 (.slice yo T.length yc)).run Try.prog w' = .ok (.string (str T)) w') ∧ (convert 22 9 (.slice bo T.length bc)).run Try.prog w' = .ok (.string (str T)) w') w7 := ⟨⟨⟨hR7.c0, hR7.c1⟩, hcr7⟩, hcv⟩
      refine wpAnyH_take (i := 10) (v := ?_) rfl (by kernel_rfl) (by kernel_rfl) (by kernel_rfl) (fun _ _ _ h => h) (Or.inl ⟨by rfl, ?_⟩) (by assumption) ?_; rotate_left
      · (intro w hSw; (try dsimp only at hSw); go_simp; try with_reducible rfl)
      try simp only [List.getElem_toArray, List.getElem_cons_zero, List.getElem_cons_succ, Act.put, List.setIfInBounds_toArray, List.set_cons_zero, List.set_cons_succ]
      refine wpAnyH_take (i := 16) (v := ?_) rfl (by kernel_rfl) (by kernel_rfl) (by kernel_rfl) (fun _ _ _ h => h) (Or.inl ⟨by rfl, ?_⟩) (by assumption) ?_; rotate_left
      · (intro w hSw; (try dsimp only at hSw); go_simp; try with_reducible rfl)
      try simp only [List.getElem_toArray, List.getElem_cons_zero, List.getElem_cons_succ, Act.put, List.setIfInBounds_toArray, List.set_cons_zero, List.set_cons_succ]
      refine wpAnyH_take (i := 17) (v := ?_) rfl (by kernel_rfl) (by kernel_rfl) (by kernel_rfl) (fun _ _ _ h => h) (Or.inl ⟨by rfl, ?_⟩) (by assumption) ?_; rotate_left
      · (intro w hSw; (try dsimp only at hSw); go_simp; try with_reducible rfl)
      try simp only [List.getElem_toArray, List.getElem_cons_zero, List.getElem_cons_succ, Act.put, List.setIfInBounds_toArray, List.set_cons_zero, List.set_cons_succ]
      refine wpAnyH_take (i := 18) (v := ?_) rfl (by kernel_rfl) (by kernel_rfl) (by kernel_rfl) (fun _ _ _ h => h) (Or.inl ⟨by rfl, ?_⟩) (by assumption) ?_; rotate_left
      · (intro w hSw; (try dsimp only at hSw); go_simp; try with_reducible rfl)
      try simp only [List.getElem_toArray, List.getElem_cons_zero, List.getElem_cons_succ, Act.put, List.setIfInBounds_toArray, List.set_cons_zero, List.set_cons_succ]
      refine wpAnyH_done (by kernel_rfl) ?_ _
      go_wp2
      go_ret
      exact ⟨rfl, B7⟩


theorem bulk_one {H : Type} (l : List (DataW H)) : ∀ x ∈ l, Rows.uptoBulk x ≤ Rows.uptoBulkAll l := by
  induction l with
  | nil => intro x hx; cases hx
  | cons y r ih =>
    intro x hx
    simp only [Rows.uptoBulkAll]
    rcases List.mem_cons.1 hx with rfl | hx
    · omega
    · have := ih x hx; omega
theorem bulk_count {H : Type} (l : List (DataW H)) (h : ∀ x ∈ l, 1 ≤ Rows.uptoBulk x) : l.length ≤ Rows.uptoBulkAll l := by
  induction l with
  | nil => simp [Rows.uptoBulkAll]
  | cons y r ih =>
    have h1 := h y (by simp)
    have h2 := ih (fun x hx => h x (by simp [hx]))
    simp only [Rows.uptoBulkAll, List.length_cons]
    omega
/-- What the bound gives: so many strings at the most, each so long. -/
theorem small {H : Type} {d0 : DataW H} {len m : Nat} {Sx : Nat → ByteArray}
    (hk : Rows.uptoSmall H [d0, .slice ((List.range len).map fun i => .lit (.string (Sx i).data.toList)) ((List.range m).map fun j => .lit (.string (Sx (len + j)).data.toList))] = true) :
    len ≤ 1048576 ∧ ∀ j, j < len → (Sx j).size ≤ 1048576 := by
  have h : Rows.uptoBulkAll [d0, DataW.slice ((List.range len).map fun i => .lit (.string (Sx i).data.toList)) ((List.range m).map fun j => .lit (.string (Sx (len + j)).data.toList))] ≤ 1048576 := of_decide_eq_true hk
  simp only [Rows.uptoBulkAll, Rows.uptoBulk] at h
  refine ⟨?_, fun j hj => ?_⟩
  · have := bulk_count ((List.range len).map fun i => DataW.lit (H := H) (.string (Sx i).data.toList)) (by
      intro x hx
      obtain ⟨i, _, rfl⟩ := List.mem_map.1 hx
      simp [Rows.uptoBulk])
    simp only [List.length_map, List.length_range] at this
    omega
  · have := bulk_one ((List.range len).map fun i => DataW.lit (H := H) (.string (Sx i).data.toList)) (.lit (.string (Sx j).data.toList)) (List.mem_map.2 ⟨j, List.mem_range.2 hj, rfl⟩)
    simp only [Rows.uptoBulk] at this
    have e : (Sx j).data.toList.length = (Sx j).size := by rw [Array.length_toList]; rfl
    omega

theorem contract (H : Type) (enc : TypeId × Value → H) (W : World) (base : Nat) (args : Array Value) (ds gs : List (DataW H)) (before : List MemPlace)
    (hval : ∀ (j : Nat) t v, Try.f4.params[j]? = some t → args[j]? = some v → Value.okWide Try.prog W .any base t v)
    (hW : DataW.Whole enc Try.prog Try.f4.params.toList Rows.flowOutSpec.vars false W args.toList ds gs before) (hk : Rows.uptoSmall H (ds ++ gs) = true) :
    Calls Try.prog 4 args W fun e W' => ∃ v, e = .returned v ∧ Rows.flowOutSpec.post enc Try.prog Try.f4 false true false false W args v W' := by
  have hW' := hW
  obtain ⟨p, q, hA0, hV, rfl, hfz, hnd⟩ := hW
  have hA : DataW.TrodAll enc Try.prog W 0 (fun _ => true) true Try.f4.params.toList args.toList ds p := hA0
  rw [Try.params4] at hA hval
  obtain ⟨v0, vs0, d0, ds0, p0, q0, hargs, rfl, rfl, h0, r0⟩ := trodAll_cons hA
  obtain ⟨v1, vs1, d1, ds1, p1, q1, rfl, rfl, rfl, h1, r1⟩ := trodAll_cons r0
  obtain ⟨rfl, rfl, rfl⟩ := trodAll_nil r1
  obtain rfl : args = #[v0, v1] := by cases args; simp_all
  obtain ⟨rfl, rfl⟩ := trodVars_none hV
  obtain ⟨room, rfl, rfl, rfl, wr⟩ := open_int Try.underlying3 (hval 0 3 v0 rfl rfl) h0
  obtain ⟨a1, len1, cap1, rfl⟩ := okWide_slice Try.underlying33 (hval 1 33 v1 rfl rfl)
  have k1 := h1
  have lt1 : ∀ x ∈ p1, x.block < W.heap.size := by obtain ⟨m, hm⟩ := k1; exact DataW.trod_lt m _ _ _ hm
  obtain ⟨Sx, hlen, hS⟩ : ∃ Sx : Nat → ByteArray, len1 ≤ 1048576 ∧ ∀ j, j < len1 → (Sx j).size ≤ 1048576 ∧ ∃ b o, a1 = some ⟨b, o, none⟩ ∧ b < W.heap.size ∧ W.cell? ⟨b, o + j, none⟩ = some (.string (Sx j)) := by
    obtain ⟨fuel, hf⟩ := h1
    rcases open_strs Try.underlying33 Try.underlying9 (by kernel_rfl) hf with ⟨hcs, _⟩ | ⟨x, l, c, m, Sx, hcs, _, hl, hm, hmm, hx, hcell⟩
    · simp [Value.cells] at hcs
      obtain ⟨rfl, rfl, rfl⟩ := hcs
      exact ⟨fun _ => .empty, by omega, fun j hj => by omega⟩
    · simp [Value.cells] at hcs
      obtain ⟨rfl, rfl, rfl⟩ := hcs
      simp only [Prod.mk.injEq] at hx
      simp only [if_true] at hmm
      obtain ⟨hd, _⟩ := hx
      rw [hd] at hk
      obtain ⟨s1, s2⟩ := small hk
      refine ⟨Sx, s1, fun j hj => ⟨s2 j hj, ?_⟩⟩
      obtain ⟨b, o, s⟩ := x
      have hc0 := (hcell 0 (by omega)).1
      have hs : s = none := by simpa [Addr.add] using World.cell?_spot hc0
      subst hs
      have hcj := (hcell j (by omega)).1
      rw [addr_add] at hcj
      exact ⟨b, o, rfl, World.block_lt_of_cell? W _ hcj, hcj⟩
  clear hA0
  have hw0 := wf_i64 wr
  refine (walk room a1 len1 cap1 Sx W hw0.1 hw0.2 hlen hS).mono fun e W' ⟨he, bel⟩ => ?_
  subst he
  exact ⟨_, rfl, _, _, _, [], _, [], hW', trodAll_mk1 (shut_bool Try.underlying4 _), (trodAll_cons_mk (shut_int Try.underlying3 wr) (trodAll_cons_mk (Below.trod laidOut (by kernel_rfl) (of_decide_eq_true (by kernel_rfl)) k1 bel lt1) trodAll_mk0)), rfl, bel.frame _, fun h => by cases h⟩

set_option maxRecDepth 100000 in
theorem lifted (os : Os) (started : os.Started) (H : Type) (enc : TypeId × Value → H) (F : Stop.Interp) :
    ReturnsInHanded {} Try.checked os 4 .any ((Rows.OpenSpec.upto Rows.flowOutSpec).pre6 enc Try.prog Try.f4 Rows.flowOutUptoRow.domain false) (((Rows.OpenSpec.upto Rows.flowOutSpec).at F).post enc Try.prog Try.f4 false true false false) := by
  refine returnsInHanded_of_cond (C := Try.checked) (s := Rows.OpenSpec.upto Rows.flowOutSpec) (k := Rows.uptoSmall) rfl own started (by kernel_rfl) Try.func4
    (OpenSpec.witness (enc := enc) (C := Try.checked) (s := Rows.OpenSpec.upto Rows.flowOutSpec) (k := Rows.uptoSmall) rfl false ⟨#[], #[.int .i64 0, .slice none 0 0], []⟩ 8 (by kernel_rfl) (by kernel_rfl) (by kernel_rfl)
      (x := ([.lit (.int .i64 0), .nil], [], [])) (by kernel_rfl) rfl (by kernel_rfl)) ?_
  intro W base args ds gs before hval hW _ hk _
  exact contract H enc W base args ds gs before hval hW hk

theorem proved : Rows.FlowOutUptoSaid :=
  OpenClaim.holds_of_cond 4 Try.f4 rfl rfl rfl rfl rfl rfl rfl ⟨rfl, rfl, rfl, rfl, rfl⟩ rfl rfl rfl rfl rfl (by kernel_rfl) Try.func4 (by kernel_rfl)
    (of_decide_eq_true (by kernel_rfl)) (by unfold Func.isWrapper; first | (rw [if_pos (by decide +kernel)]; kernel_rfl) | (rw [if_neg (by decide +kernel)]; exact ⟨rfl, rfl⟩))
    (fun os started H enc _ F => lifted os started H enc F)
end Go.Proofs.Yteollicbaahmpaa.flowOut
namespace Go.Proofs.Yteollicbaahmpaa
theorem flowOut_holds : Rows.FlowOutUptoSaid := flowOut.proved
#print axioms flowOut_holds
end Go.Proofs.Yteollicbaahmpaa
