/- Utf8Back: the walk. -/
import Derived.Test.YtbbegadpkpdiaaaDoorWorks
import Derived.Test.YtbbegadpkpdiaaaDoorConvApp
import Derived.Deep.RegionHeld3
import Derived.Deep.DeepCutAuto
import Derived.Deep.QuietTactic
import Derived.BigQuiet
namespace Go.Proofs.YtbbegadpkpdiaaaDoor.U8
open Go.ChangeShapes Go.WideShapes Go.ChangeAt Go.RowKit Go.Proofs.YtbbegadpkpdiaaaDoor.Mem Go.Proofs.YtbbegadpkpdiaaaDoor.Ucs
set_option linter.unusedVariables false

theorem info5b : (Tryd.prog.info? 5).map (fun i => (i.zero, i.size, i.bytes)) = some (some (.int .u8 0), 1, 1) := by kernel_rfl

set_option maxRecDepth 100000 in
set_option maxHeartbeats 8000000 in
theorem back_walk (u : Int) (ao : Option Addr) (cap : Nat) (L : List UInt8) (w : World) (hF : Forms w) (hB : Bytes w ao L) (hc : L.length ≤ cap) (hcm : cap ≤ 140737488351232) :
    Calls Tryd.prog 6 #[.int .i32 u, .slice ao L.length cap] w fun e w' => e = .returned (.bool true) ∧ Below w.heap.size w w' := by
  have hw := works_any w hF
  obtain ⟨R, hR⟩ : ∃ R, Hid (get L = R) := ⟨_, rfl⟩
  have hB0 := Hid.mk' hB
  have hF0 := Hid.mk' hF
  clear hB hF
  cases R using Res.three with
  | ok n x =>
    obtain ⟨hx, hn, r, hL⟩ := get_ok hR.out
    have hnl : n ≤ L.length := by rw [hL, List.length_append]; omega
    have htk : Hid (L.take n = unit x) := by refine (?_ : _ = _); rw [hL, hn, List.take_left]
    obtain ⟨s, hs⟩ : ∃ s, Hid (str (unit (x : Int).toNat) = s) := ⟨_, rfl⟩
    have hx' := Hid.mk' hx
    have hxb := sc_le hx
    have hmin : ¬ ((L.length : Int) < (n : Int)) := by omega
    have hmin2 : (if (L.length : Int) < (n : Int) then (L.length : Int) else (n : Int)) = (n : Int) := if_neg hmin
    have hz1 : (0 : Int) ≤ (n : Int) := by omega
    have hz2 : (n : Int) ≤ (cap : Int) := by omega
    have hz3 : (n : Int) ≤ (L.length : Int) := by omega
    clear hL hn hx
    go_enter Tryd.func6, Tryd.ntmps6
    go_wp2_with (first | (go_at_call 17; refine hw.mono ?_; rintro e w1 ⟨rfl, hg1⟩; clear hw) | (go_at_call 9; refine (get_at _ _ _ L _ (hF0.out.kept0 hg1) (hB0.out.kept0 hg1) rfl (by omega) _ hR.out).mono ?_; rintro e w2 ⟨rfl, hg2⟩; simp only [Res.err, Res.n, Res.k, Res.a]))
    have hg3 : Hid (w.grownBy (w2.alloc (.cells #[.int .i64 0, .int .i64 (n : Int), .int .i64 1, .int .i32 (x : Int), .int .i32 0, .int .i64 0, .int .i64 0, .int .u32 0, .int .i32 0] 28)) none) := grownBy_trans hg1 (grownBy_trans hg2 (World.grownBy_alloc _ _ _))
    have hb := heap_alloc_new w2 (.cells #[.int .i64 0, .int .i64 (n : Int), .int .i64 1, .int .i32 (x : Int), .int .i32 0, .int .i64 0, .int .i64 0, .int .u32 0, .int .i32 0] 28)
    have l0 := cell_at hb 0 (v := .int .i64 0) rfl
    have l1 := cell_at hb 1 (v := .int .i64 (n : Int)) rfl
    have l3 := cell_at hb 3 (v := .int .i32 (x : Int)) rfl
    generalize w2.alloc (.cells #[.int .i64 0, .int .i64 (n : Int), .int .i64 1, .int .i32 (x : Int), .int .i32 0, .int .i64 0, .int .i64 0, .int .u32 0, .int .i32 0] 28) = w3 at *
    generalize w2.heap.size = fb at *
    have hcv : (convert 22 9 (.slice ao n cap)).run Tryd.prog w3 = .ok (.string s) w3 := by
      have h := conv (P := Tryd.prog) (((hB0.out.kept0 hg3.out)).take n) 22 9 cap Tryd.underlying22 Tryd.underlying5 Tryd.underlying9
      rw [htk.out] at h
      have e : (unit x).length = n := by rw [← htk.out, List.length_take]; omega
      rw [e] at h
      rw [h, ← hs.out, Int.toNat_natCast]
    clear hb hg1 hg2
    have hcvF : Hid (∀ w4 : World, w.grownBy w4 none → (convert 22 9 (.slice ao n cap)).run Tryd.prog w4 = .ok (.string s) w4) := by
      refine (?_ : ∀ w4 : World, _)
      intro w4 hg
      have h := conv (P := Tryd.prog) (((hB0.out.kept0 hg)).take n) 22 9 cap Tryd.underlying22 Tryd.underlying5 Tryd.underlying9
      rw [htk.out] at h
      have e : (unit x).length = n := by rw [← htk.out, List.length_take]; omega
      rw [e] at h
      rw [h, ← hs.out, Int.toNat_natCast]
    have hS3 := (⟨l0, l1, l3, hcvF.out _ (grownBy_drew hg3.out)⟩ : (fun w' => w'.cell? ⟨fb, 0, none⟩ = some (.int .i64 0) ∧ w'.cell? ⟨fb, 1, none⟩ = some (.int .i64 (n : Int)) ∧ w'.cell? ⟨fb, 3, none⟩ = some (.int .i32 (x : Int)) ∧ (convert 22 9 (.slice ao n cap)).run Tryd.prog w' = .ok (.string s) w') w3.drew)
    try dsimp only at hS3
    go_region_held3 (fun w' => w'.cell? ⟨fb, 0, none⟩ = some (.int .i64 0) ∧ w'.cell? ⟨fb, 1, none⟩ = some (.int .i64 (n : Int)) ∧ w'.cell? ⟨fb, 3, none⟩ = some (.int .i32 (x : Int)) ∧ (convert 22 9 (.slice ao n cap)).run Tryd.prog w' = .ok (.string s) w') (first | assumption | go_keep)
      (first | (refine step_run (by rfl) (exec_min _ _ 3 (by rfl) .i64 .i64 (n : Int) (L.length : Int) (n : Int) (by simp [Act.eval]) (by simp [Act.eval]) hmin2) ?_) | (go_at_call 11; refine (set_at (x : Int) _ (Forms.drew (hF0.out.kept0 hg3.out)) hx'.out s hs.out).mono ?_; rintro e w4 ⟨rfl, hg4⟩; have hS4 : (fun w' => w'.cell? ⟨fb, 0, none⟩ = some (.int .i64 0) ∧ w'.cell? ⟨fb, 1, none⟩ = some (.int .i64 (n : Int)) ∧ w'.cell? ⟨fb, 3, none⟩ = some (.int .i32 (x : Int)) ∧ (convert 22 9 (.slice ao n cap)).run Tryd.prog w' = .ok (.string s) w') w4 := ⟨hg4.cell l0 (by simp), hg4.cell l1 (by simp), hg4.cell l3 (by simp), hcvF.out w4 (grownBy_trans hg3.out (grownBy_of_drew hg4))⟩; try dsimp only at hS4))
    all_goals
      have hgw : Hid (w.grownBy w4 none) := grownBy_trans hg3.out (grownBy_of_drew hg4)
      have hF4 := Hid.mk' (hF0.out.kept0 hgw.out)
      by_cases hu : scB u = true
      · obtain ⟨y, rfl⟩ := Int.eq_ofNat_of_zero_le (scB_iff.1 hu).1
        obtain ⟨p, hp⟩ : ∃ p, Hid (str (unit (y : Int).toNat) = p) := ⟨_, rfl⟩
        have hu' := Hid.mk' hu
        have hpd : Hid (p.data.toList = unit y) := by refine (?_ : _ = _); rw [← hp.out, Int.toNat_natCast, str_data]
        obtain ⟨m, hm⟩ : ∃ m, Hid (m = uk y + 1) := ⟨_, rfl⟩
        have hky := uk_le y
        have hmle : m ≤ 4 := by rw [hm.out]; omega
        have hps : p.size = m := by rw [← hp.out, Int.toNat_natCast, str_size, unit_length, hm.out]
        have hpl : p.data.toList.length = m := by rw [hpd.out, unit_length, hm.out]
        have hm1 : (1 : Int) ≤ (m : Int) := by rw [hm.out]; omega
        have hm2 : (m : Int) ≤ 4 := by omega
        have hd1 : decide ((1 : Int) ≤ (m : Int)) = true := decide_eq_true hm1
        have hd2 : decide ((m : Int) ≤ 4) = true := decide_eq_true hm2
        clear hky
        go_wp2_with (first | (go_at_call 11; refine (set_at (y : Int) _ hF4.out hu'.out p hp.out).mono ?_; rintro e w5 ⟨rfl, hg5⟩) | (go_at_call 18; refine (scalar_ref _ _).mono ?_; rintro e w' ⟨rfl, hw⟩; obtain rfl := hw.symm))
        have hg6 : Hid (w.grownBy (w5.alloc (.cells #[.int .i64 0, .string p, .int .i64 0, .int .i64 0, .int .u32 0, .int .i32 0] 32)) none) := grownBy_trans hgw.out (grownBy_trans hg5 (World.grownBy_alloc _ _ _))
        have q1 := cell_at (heap_alloc_new w5 (.cells #[.int .i64 0, .string p, .int .i64 0, .int .i64 0, .int .u32 0, .int .i32 0] 32)) 1 (v := .string p) rfl
        have hsz6 : w5.heap.size < (w5.alloc (.cells #[.int .i64 0, .string p, .int .i64 0, .int .i64 0, .int .u32 0, .int .i32 0] 32)).heap.size := by simp
        generalize w5.alloc (.cells #[.int .i64 0, .string p, .int .i64 0, .int .i64 0, .int .u32 0, .int .i32 0] 32) = w6 at *
        generalize w5.heap.size = pb at *
        obtain ⟨c7, w7, hcvt, hE7, hg7⟩ := conv_own (P := Tryd.prog) w6.drew 9 22 p Tryd.underlying9 Tryd.underlying22 Tryd.underlying5 (by omega)
        have hg67 : w6.grownBy w7 none := grownBy_of_drew hg7
        obtain ⟨i0, hi, hz0, hz1, hz2⟩ := info_parts info5b
        have hBw7 : Bytes w7 ao L := hB0.out.kept0 (grownBy_trans hg6.out hg67)
        rw [hpl] at hcvt
        obtain ⟨ao8, c8, w8, hrun, hB8, hg8⟩ := run_append_E (P := Tryd.prog) w7 22 22 22 i0 Tryd.underlying22 hi hz0 hz1 hz2 w6.drew.heap.size c7 p.data.toList hE7 (.slice ao L.length cap) L (src_of hBw7 22 cap Tryd.underlying22) (by omega)
        have hne : some pb ≠ some w6.drew.heap.size := by intro e; have := Option.some.inj e; have h : w6.drew.heap.size = w6.heap.size := rfl; omega
        have hS6 : w6.drew.cell? ⟨pb, 1, none⟩ = some (.string p) := q1
        have hS7 : w7.cell? ⟨pb, 1, none⟩ = some (.string p) := hg7.cell hS6 (by simp)
        have hS8 : w8.cell? ⟨pb, 1, none⟩ = some (.string p) := hg8.cell hS7 hne
        have hF8 : Hid (Forms w8) := by
          refine (?_ : Forms w8)
          have h7 : Forms w7 := hF0.out.kept0 (grownBy_trans hg6.out hg67)
          refine h7.kept hg8 ?_
          intro e
          have e' : w6.heap.size = 0 := Option.some.inj e
          omega
        have hG8 : Hid (w.grownBy w8 none) := by
          refine (?_ : w.grownBy w8 none)
          refine grownBy_new (grownBy_trans hg6.out hg67) hg8 ?_
          intro g e
          have e' : w6.heap.size = g := Option.some.inj e
          have := hg6.out.size
          omega
        have hB8' : Hid (Bytes w8 ao8 (unit y ++ L)) := by rw [hpd.out] at hB8; exact hB8
        have hgt : Hid (get (unit y ++ L) = .ok (unit y).length y) := get_unit hu'.out L
        have hul : (unit y).length = m := by rw [unit_length, hm.out]
        rw [List.length_append, hpl] at hrun
        clear hE7 hBw7 hB8 hg7 q1
        refine wp_region_held_drew (S := fun w' => w'.cell? ⟨pb, 1, none⟩ = some (.string p)) (by kernel_rfl) hS6 (fun hHeld => ?_)
        refine wpAnyH_take (i := 0) (v := ?_) rfl (by kernel_rfl) (by kernel_rfl) (by kernel_rfl) (fun _ _ _ h => h) (Or.inl ⟨by rfl, ?_⟩) (by assumption) ?_; rotate_left
        · (intro w hSw; (try dsimp only at hSw); go_simp; try with_reducible rfl)
        try simp only [List.getElem_toArray, List.getElem_cons_zero, Act.put, List.setIfInBounds_toArray, List.set_cons_zero, List.set_cons_succ]
        refine wpAnyH_take (i := 1) (v := ?_) rfl (by kernel_rfl) (by kernel_rfl) (by kernel_rfl) (fun _ _ _ h => h) (Or.inl ⟨by rfl, ?_⟩) (by assumption) ?_; rotate_left
        · (intro w hSw; (try dsimp only at hSw); go_simp; try with_reducible rfl)
        try simp only [List.getElem_toArray, List.getElem_cons_zero, List.getElem_cons_succ, Act.put, List.setIfInBounds_toArray, List.set_cons_zero, List.set_cons_succ]
        refine wpAnyH_take (i := 2) (v := ?_) rfl (by kernel_rfl) (by kernel_rfl) (by kernel_rfl) (fun _ _ _ h => h) (Or.inl ⟨by rfl, ?_⟩) (by assumption) ?_; rotate_left
        · (intro w hSw; (try dsimp only at hSw); go_simp; try with_reducible rfl)
        try simp only [List.getElem_toArray, List.getElem_cons_zero, List.getElem_cons_succ, Act.put, List.setIfInBounds_toArray, List.set_cons_zero, List.set_cons_succ]
        refine wpAnyH_take (i := 3) (v := ?_) rfl (by kernel_rfl) (by kernel_rfl) (by kernel_rfl) (fun _ _ _ h => h) (Or.inl ⟨by rfl, ?_⟩) (by assumption) ?_; rotate_left
        · (intro w hSw; (try dsimp only at hSw); go_simp; try with_reducible rfl)
        try simp only [List.getElem_toArray, List.getElem_cons_zero, List.getElem_cons_succ, Act.put, List.setIfInBounds_toArray, List.set_cons_zero, List.set_cons_succ]
        refine wpAnyH_take (i := 4) (v := ?_) rfl (by kernel_rfl) (by kernel_rfl) (by kernel_rfl) (fun _ _ _ h => h) (Or.inl ⟨by rfl, ?_⟩) (by assumption) ?_; rotate_left
        · (intro w hSw; (try dsimp only at hSw); go_simp; try with_reducible rfl)
        try simp only [List.getElem_toArray, List.getElem_cons_zero, List.getElem_cons_succ, Act.put, List.setIfInBounds_toArray, List.set_cons_zero, List.set_cons_succ]
        refine wpAnyH_take (i := 5) (v := ?_) rfl (by kernel_rfl) (by kernel_rfl) (by kernel_rfl) (fun _ _ _ h => h) (Or.inl ⟨by rfl, ?_⟩) (by assumption) ?_; rotate_left
        · (intro w hSw; (try dsimp only at hSw); go_simp; try with_reducible rfl)
        try simp only [List.getElem_toArray, List.getElem_cons_zero, List.getElem_cons_succ, Act.put, List.setIfInBounds_toArray, List.set_cons_zero, List.set_cons_succ]
        refine wpAnyH_take (i := 6) (v := ?_) rfl (by kernel_rfl) (by kernel_rfl) (by kernel_rfl) (fun _ _ _ h => h) (Or.inl ⟨by rfl, ?_⟩) (by assumption) ?_; rotate_left
        · (intro w hSw; (try dsimp only at hSw); go_simp; try with_reducible rfl)
        try simp only [List.getElem_toArray, List.getElem_cons_zero, List.getElem_cons_succ, Act.put, List.setIfInBounds_toArray, List.set_cons_zero, List.set_cons_succ]
        refine wpAnyH_take (i := 7) (v := ?_) rfl (by kernel_rfl) (by kernel_rfl) (by kernel_rfl) (fun _ _ _ h => h) (Or.inl ⟨by rfl, ?_⟩) (by assumption) ?_; rotate_left
        · (intro w hSw; (try dsimp only at hSw); go_simp; try with_reducible rfl)
        try simp only [List.getElem_toArray, List.getElem_cons_zero, List.getElem_cons_succ, Act.put, List.setIfInBounds_toArray, List.set_cons_zero, List.set_cons_succ]
        refine wpAnyH_take (i := 8) (v := ?_) rfl (by kernel_rfl) (by kernel_rfl) (by kernel_rfl) (fun _ _ _ h => h) (Or.inl ⟨by rfl, ?_⟩) (by assumption) ?_; rotate_left
        · (intro w hSw; (try dsimp only at hSw); go_simp; try with_reducible rfl)
        try simp only [List.getElem_toArray, List.getElem_cons_zero, List.getElem_cons_succ, Act.put, List.setIfInBounds_toArray, List.set_cons_zero, List.set_cons_succ]
        refine wpAnyH_take (i := 9) (v := ?_) rfl (by kernel_rfl) (by kernel_rfl) (by kernel_rfl) (fun _ _ _ h => h) (Or.inl ⟨by rfl, ?_⟩) (by assumption) ?_; rotate_left
        · (intro w hSw; (try dsimp only at hSw); go_simp; try with_reducible rfl)
        try simp only [List.getElem_toArray, List.getElem_cons_zero, List.getElem_cons_succ, Act.put, List.setIfInBounds_toArray, List.set_cons_zero, List.set_cons_succ]
        refine wpAnyH_take (i := 10) (v := ?_) rfl (by kernel_rfl) (by kernel_rfl) (by kernel_rfl) (fun _ _ _ h => h) (Or.inl ⟨by rfl, ?_⟩) (by assumption) ?_; rotate_left
        · (intro w hSw; (try dsimp only at hSw); go_simp; try with_reducible rfl)
        try simp only [List.getElem_toArray, List.getElem_cons_zero, List.getElem_cons_succ, Act.put, List.setIfInBounds_toArray, List.set_cons_zero, List.set_cons_succ]
        refine wpAnyH_take (i := 11) (v := ?_) rfl (by kernel_rfl) (by kernel_rfl) (by kernel_rfl) (fun _ _ _ h => h) (Or.inl ⟨by rfl, ?_⟩) (by assumption) ?_; rotate_left
        · (intro w hSw; (try dsimp only at hSw); go_simp; try with_reducible rfl)
        try simp only [List.getElem_toArray, List.getElem_cons_zero, List.getElem_cons_succ, Act.put, List.setIfInBounds_toArray, List.set_cons_zero, List.set_cons_succ]
        refine wpAnyH_take (i := 12) (v := ?_) rfl (by kernel_rfl) (by kernel_rfl) (by kernel_rfl) (fun _ _ _ h => h) (Or.inl ⟨by rfl, ?_⟩) (by assumption) ?_; rotate_left
        · (intro w hSw; (try dsimp only at hSw); go_simp; try with_reducible rfl)
        try simp only [List.getElem_toArray, List.getElem_cons_zero, List.getElem_cons_succ, Act.put, List.setIfInBounds_toArray, List.set_cons_zero, List.set_cons_succ]
        refine wpAnyH_take (i := 14) (v := ?_) rfl (by kernel_rfl) (by kernel_rfl) (by kernel_rfl) (fun _ _ _ h => h) (Or.inl ⟨by rfl, ?_⟩) (by assumption) ?_; rotate_left
        · (intro w hSw; (try dsimp only at hSw); go_simp; try with_reducible rfl)
        try simp only [List.getElem_toArray, List.getElem_cons_zero, List.getElem_cons_succ, Act.put, List.setIfInBounds_toArray, List.set_cons_zero, List.set_cons_succ]
        refine wpAnyH_take (i := 17) (v := ?_) rfl (by kernel_rfl) (by kernel_rfl) (by kernel_rfl) (fun _ _ _ h => h) (Or.inl ⟨by rfl, ?_⟩) (by assumption) ?_; rotate_left
        · (intro w hSw; (try dsimp only at hSw); go_simp; try with_reducible rfl)
        try simp only [List.getElem_toArray, List.getElem_cons_zero, List.getElem_cons_succ, Act.put, List.setIfInBounds_toArray, List.set_cons_zero, List.set_cons_succ]
        refine wpAnyH_take (i := 18) (v := ?_) rfl (by kernel_rfl) (by kernel_rfl) (by kernel_rfl) (fun _ _ _ h => h) (Or.inl ⟨by rfl, ?_⟩) (by assumption) ?_; rotate_left
        · (intro w hSw; (try dsimp only at hSw); go_simp; try with_reducible rfl)
        try simp only [List.getElem_toArray, List.getElem_cons_zero, List.getElem_cons_succ, Act.put, List.setIfInBounds_toArray, List.set_cons_zero, List.set_cons_succ]
        refine wpAnyH_take (i := 19) (v := ?_) rfl (by kernel_rfl) (by kernel_rfl) (by kernel_rfl) (fun _ _ _ h => h) (Or.inl ⟨by rfl, ?_⟩) (by assumption) ?_; rotate_left
        · (intro w hSw; (try dsimp only at hSw); go_simp; try with_reducible rfl)
        try simp only [List.getElem_toArray, List.getElem_cons_zero, List.getElem_cons_succ, Act.put, List.setIfInBounds_toArray, List.set_cons_zero, List.set_cons_succ]
        refine wpAnyH_take (i := 20) (v := ?_) rfl (by kernel_rfl) (by kernel_rfl) (by kernel_rfl) (fun _ _ _ h => h) (Or.inl ⟨by rfl, ?_⟩) (by assumption) ?_; rotate_left
        · (intro w hSw; (try dsimp only at hSw); go_simp; try with_reducible rfl)
        try simp only [List.getElem_toArray, List.getElem_cons_zero, List.getElem_cons_succ, Act.put, List.setIfInBounds_toArray, List.set_cons_zero, List.set_cons_succ]
        refine wpAnyH_take (i := 21) (v := ?_) rfl (by kernel_rfl) (by kernel_rfl) (by kernel_rfl) (fun _ _ _ h => h) (Or.inl ⟨by rfl, ?_⟩) (by assumption) ?_; rotate_left
        · (intro w hSw; (try dsimp only at hSw); go_simp; try with_reducible rfl)
        try simp only [List.getElem_toArray, List.getElem_cons_zero, List.getElem_cons_succ, Act.put, List.setIfInBounds_toArray, List.set_cons_zero, List.set_cons_succ]
        refine wpAnyH_ready (rs := [13]) (by kernel_rfl) (by simp) ?_
        refine AllReadyH.cons rfl (fun K hK => ?_) AllReadyH.nil
        refine step_run (by rfl) (exec_convert _ _ _ (by rfl) (by simp [Act.eval]) hcvt) ?_
        refine hK.out _ _ hS7 (fun hHeld => ?_)
        clear hK K
        try simp only [List.getElem_toArray, List.getElem_cons_zero, List.getElem_cons_succ, Act.put, List.setIfInBounds_toArray, List.set_cons_zero, List.set_cons_succ]
        refine wpAnyH_ready (rs := [15]) (by kernel_rfl) (by simp) ?_
        refine AllReadyH.cons rfl (fun K hK => ?_) AllReadyH.nil
        refine step_run (by rfl) (exec_append _ _ _ _ (by rfl) (by simp [Act.eval]) (by simp [Act.eval]) hrun) ?_
        refine hK.out _ _ hS8 (fun hHeld => ?_)
        clear hK K
        try simp only [List.getElem_toArray, List.getElem_cons_zero, List.getElem_cons_succ, Act.put, List.setIfInBounds_toArray, List.set_cons_zero, List.set_cons_succ]
        refine wpAnyH_ready (rs := [16]) (by kernel_rfl) (by simp) ?_
        refine AllReadyH.cons rfl (fun K hK => ?_) AllReadyH.nil
        go_simp
        go_at_call 9; refine (get_at _ _ _ (unit y ++ L) _ hF8.out hB8'.out (by rw [List.length_append, hul]) (by omega) _ hgt.out).mono ?_; rintro e w9 ⟨rfl, hg9⟩; simp only [Res.err, Res.n, Res.k, Res.a]; have hS9 := hg9.cell hS8 (by simp); try dsimp only
        refine hK.out _ _ hS9 (fun hHeld => ?_)
        clear hK K
        try simp only [List.getElem_toArray, List.getElem_cons_zero, List.getElem_cons_succ, Act.put, List.setIfInBounds_toArray, List.set_cons_zero, List.set_cons_succ]
        refine wpAnyH_take (i := 22) (v := ?_) rfl (by kernel_rfl) (by kernel_rfl) (by kernel_rfl) (fun _ _ _ h => h) (Or.inl ⟨by rfl, ?_⟩) (by assumption) ?_; rotate_left
        · (intro w hSw; (try dsimp only at hSw); go_simp; try with_reducible rfl)
        try simp only [List.getElem_toArray, List.getElem_cons_zero, List.getElem_cons_succ, Act.put, List.setIfInBounds_toArray, List.set_cons_zero, List.set_cons_succ]
        refine wpAnyH_take (i := 23) (v := ?_) rfl (by kernel_rfl) (by kernel_rfl) (by kernel_rfl) (fun _ _ _ h => h) (Or.inl ⟨by rfl, ?_⟩) (by assumption) ?_; rotate_left
        · (intro w hSw; (try dsimp only at hSw); go_simp; try with_reducible rfl)
        try simp only [List.getElem_toArray, List.getElem_cons_zero, List.getElem_cons_succ, Act.put, List.setIfInBounds_toArray, List.set_cons_zero, List.set_cons_succ]
        refine wpAnyH_take (i := 24) (v := ?_) rfl (by kernel_rfl) (by kernel_rfl) (by kernel_rfl) (fun _ _ _ h => h) (Or.inl ⟨by rfl, ?_⟩) (by assumption) ?_; rotate_left
        · (intro w hSw; (try dsimp only at hSw); go_simp; try with_reducible rfl)
        try simp only [List.getElem_toArray, List.getElem_cons_zero, List.getElem_cons_succ, Act.put, List.setIfInBounds_toArray, List.set_cons_zero, List.set_cons_succ]
        refine wpAnyH_done (by kernel_rfl) ?_ _
        go_wp2
        go_ret
        exact ⟨rfl, (Below.refl _ w).grown (grownBy_trans hG8.out hg9) (Nat.le_refl _) (by simp)⟩
      · have hu : scB u = false := by simpa using hu
        have hn0 := Hid.mk' (fun w => set_none u w hu)
        go_wp2_with (first | (go_at_call 11; refine (hn0.out _).mono ?_; rintro e w5 ⟨rfl, hg5⟩) | (go_at_call 18; refine (scalar_ref _ _).mono ?_; rintro e w' ⟨rfl, hw⟩; obtain rfl := hw.symm))
        go_ret
        exact ⟨rfl, (Below.refl _ w).grown (grownBy_trans hgw.out (grownBy_trans hg5 (World.grownBy_alloc _ _ _))) (Nat.le_refl _) (by simp)⟩
  | more =>
    go_enter Tryd.func6, Tryd.ntmps6
    go_wp2_with (first | (go_at_call 17; refine hw.mono ?_; rintro e w1 ⟨rfl, hg1⟩; clear hw) | (go_at_call 9; refine (get_at _ _ _ L _ (hF0.out.kept0 hg1) (hB0.out.kept0 hg1) rfl (by omega) _ hR.out).mono ?_; rintro e w2 ⟨rfl, hg2⟩; simp only [Res.err, Res.n, Res.k, Res.a]))
    have hg3 : Hid (w.grownBy (w2.alloc (.cells #[.int .i64 1, .int .i64 ((0 : Nat) : Int), .int .i64 0, .int .i32 0, .int .i32 0, .int .i64 0, .int .i64 0, .int .u32 0, .int .i32 0] 28)) none) := grownBy_trans hg1 (grownBy_trans hg2 (World.grownBy_alloc _ _ _))
    have l0 := cell_at (heap_alloc_new w2 (.cells #[.int .i64 1, .int .i64 ((0 : Nat) : Int), .int .i64 0, .int .i32 0, .int .i32 0, .int .i64 0, .int .i64 0, .int .u32 0, .int .i32 0] 28)) 0 (v := .int .i64 1) rfl
    generalize w2.alloc (.cells #[.int .i64 1, .int .i64 ((0 : Nat) : Int), .int .i64 0, .int .i32 0, .int .i32 0, .int .i64 0, .int .i64 0, .int .u32 0, .int .i32 0] 28) = w3 at *
    generalize w2.heap.size = fb at *
    clear hg1 hg2
    go_quiet (fail)
    have hg4 : w3.grownBy (w3.drewN nq) none := ⟨rfl, rfl, rfl, Nat.le_refl _, fun _ _ _ => rfl⟩
    generalize w3.drewN nq = w4 at *
    have hgw : Hid (w.grownBy w4 none) := grownBy_trans hg3.out hg4
    have hF4 := Hid.mk' (hF0.out.kept0 hgw.out)
    by_cases hu : scB u = true
    · obtain ⟨y, rfl⟩ := Int.eq_ofNat_of_zero_le (scB_iff.1 hu).1
      obtain ⟨p, hp⟩ : ∃ p, Hid (str (unit (y : Int).toNat) = p) := ⟨_, rfl⟩
      have hu' := Hid.mk' hu
      have hpd : Hid (p.data.toList = unit y) := by refine (?_ : _ = _); rw [← hp.out, Int.toNat_natCast, str_data]
      obtain ⟨m, hm⟩ : ∃ m, Hid (m = uk y + 1) := ⟨_, rfl⟩
      have hky := uk_le y
      have hmle : m ≤ 4 := by rw [hm.out]; omega
      have hps : p.size = m := by rw [← hp.out, Int.toNat_natCast, str_size, unit_length, hm.out]
      have hpl : p.data.toList.length = m := by rw [hpd.out, unit_length, hm.out]
      have hm1 : (1 : Int) ≤ (m : Int) := by rw [hm.out]; omega
      have hm2 : (m : Int) ≤ 4 := by omega
      have hd1 : decide ((1 : Int) ≤ (m : Int)) = true := decide_eq_true hm1
      have hd2 : decide ((m : Int) ≤ 4) = true := decide_eq_true hm2
      clear hky
      go_wp2_with (first | (go_at_call 11; refine (set_at (y : Int) _ hF4.out hu'.out p hp.out).mono ?_; rintro e w5 ⟨rfl, hg5⟩) | (go_at_call 18; refine (scalar_ref _ _).mono ?_; rintro e w' ⟨rfl, hw⟩; obtain rfl := hw.symm))
      have hg6 : Hid (w.grownBy (w5.alloc (.cells #[.int .i64 0, .string p, .int .i64 0, .int .i64 0, .int .u32 0, .int .i32 0] 32)) none) := grownBy_trans hgw.out (grownBy_trans hg5 (World.grownBy_alloc _ _ _))
      have q1 := cell_at (heap_alloc_new w5 (.cells #[.int .i64 0, .string p, .int .i64 0, .int .i64 0, .int .u32 0, .int .i32 0] 32)) 1 (v := .string p) rfl
      have hsz6 : w5.heap.size < (w5.alloc (.cells #[.int .i64 0, .string p, .int .i64 0, .int .i64 0, .int .u32 0, .int .i32 0] 32)).heap.size := by simp
      generalize w5.alloc (.cells #[.int .i64 0, .string p, .int .i64 0, .int .i64 0, .int .u32 0, .int .i32 0] 32) = w6 at *
      generalize w5.heap.size = pb at *
      obtain ⟨c7, w7, hcvt, hE7, hg7⟩ := conv_own (P := Tryd.prog) w6.drew 9 22 p Tryd.underlying9 Tryd.underlying22 Tryd.underlying5 (by omega)
      have hg67 : w6.grownBy w7 none := grownBy_of_drew hg7
      obtain ⟨i0, hi, hz0, hz1, hz2⟩ := info_parts info5b
      have hBw7 : Bytes w7 ao L := hB0.out.kept0 (grownBy_trans hg6.out hg67)
      rw [hpl] at hcvt
      obtain ⟨ao8, c8, w8, hrun, hB8, hg8⟩ := run_append_E (P := Tryd.prog) w7 22 22 22 i0 Tryd.underlying22 hi hz0 hz1 hz2 w6.drew.heap.size c7 p.data.toList hE7 (.slice ao L.length cap) L (src_of hBw7 22 cap Tryd.underlying22) (by omega)
      have hne : some pb ≠ some w6.drew.heap.size := by intro e; have := Option.some.inj e; have h : w6.drew.heap.size = w6.heap.size := rfl; omega
      have hS6 : w6.drew.cell? ⟨pb, 1, none⟩ = some (.string p) := q1
      have hS7 : w7.cell? ⟨pb, 1, none⟩ = some (.string p) := hg7.cell hS6 (by simp)
      have hS8 : w8.cell? ⟨pb, 1, none⟩ = some (.string p) := hg8.cell hS7 hne
      have hF8 : Hid (Forms w8) := by
        refine (?_ : Forms w8)
        have h7 : Forms w7 := hF0.out.kept0 (grownBy_trans hg6.out hg67)
        refine h7.kept hg8 ?_
        intro e
        have e' : w6.heap.size = 0 := Option.some.inj e
        omega
      have hG8 : Hid (w.grownBy w8 none) := by
        refine (?_ : w.grownBy w8 none)
        refine grownBy_new (grownBy_trans hg6.out hg67) hg8 ?_
        intro g e
        have e' : w6.heap.size = g := Option.some.inj e
        have := hg6.out.size
        omega
      have hB8' : Hid (Bytes w8 ao8 (unit y ++ L)) := by rw [hpd.out] at hB8; exact hB8
      have hgt : Hid (get (unit y ++ L) = .ok (unit y).length y) := get_unit hu'.out L
      have hul : (unit y).length = m := by rw [unit_length, hm.out]
      rw [List.length_append, hpl] at hrun
      clear hE7 hBw7 hB8 hg7 q1
      refine wp_region_held_drew (S := fun w' => w'.cell? ⟨pb, 1, none⟩ = some (.string p)) (by kernel_rfl) hS6 (fun hHeld => ?_)
      refine wpAnyH_take (i := 0) (v := ?_) rfl (by kernel_rfl) (by kernel_rfl) (by kernel_rfl) (fun _ _ _ h => h) (Or.inl ⟨by rfl, ?_⟩) (by assumption) ?_; rotate_left
      · (intro w hSw; (try dsimp only at hSw); go_simp; try with_reducible rfl)
      try simp only [List.getElem_toArray, List.getElem_cons_zero, Act.put, List.setIfInBounds_toArray, List.set_cons_zero, List.set_cons_succ]
      refine wpAnyH_take (i := 1) (v := ?_) rfl (by kernel_rfl) (by kernel_rfl) (by kernel_rfl) (fun _ _ _ h => h) (Or.inl ⟨by rfl, ?_⟩) (by assumption) ?_; rotate_left
      · (intro w hSw; (try dsimp only at hSw); go_simp; try with_reducible rfl)
      try simp only [List.getElem_toArray, List.getElem_cons_zero, List.getElem_cons_succ, Act.put, List.setIfInBounds_toArray, List.set_cons_zero, List.set_cons_succ]
      refine wpAnyH_take (i := 2) (v := ?_) rfl (by kernel_rfl) (by kernel_rfl) (by kernel_rfl) (fun _ _ _ h => h) (Or.inl ⟨by rfl, ?_⟩) (by assumption) ?_; rotate_left
      · (intro w hSw; (try dsimp only at hSw); go_simp; try with_reducible rfl)
      try simp only [List.getElem_toArray, List.getElem_cons_zero, List.getElem_cons_succ, Act.put, List.setIfInBounds_toArray, List.set_cons_zero, List.set_cons_succ]
      refine wpAnyH_take (i := 3) (v := ?_) rfl (by kernel_rfl) (by kernel_rfl) (by kernel_rfl) (fun _ _ _ h => h) (Or.inl ⟨by rfl, ?_⟩) (by assumption) ?_; rotate_left
      · (intro w hSw; (try dsimp only at hSw); go_simp; try with_reducible rfl)
      try simp only [List.getElem_toArray, List.getElem_cons_zero, List.getElem_cons_succ, Act.put, List.setIfInBounds_toArray, List.set_cons_zero, List.set_cons_succ]
      refine wpAnyH_take (i := 4) (v := ?_) rfl (by kernel_rfl) (by kernel_rfl) (by kernel_rfl) (fun _ _ _ h => h) (Or.inl ⟨by rfl, ?_⟩) (by assumption) ?_; rotate_left
      · (intro w hSw; (try dsimp only at hSw); go_simp; try with_reducible rfl)
      try simp only [List.getElem_toArray, List.getElem_cons_zero, List.getElem_cons_succ, Act.put, List.setIfInBounds_toArray, List.set_cons_zero, List.set_cons_succ]
      refine wpAnyH_take (i := 5) (v := ?_) rfl (by kernel_rfl) (by kernel_rfl) (by kernel_rfl) (fun _ _ _ h => h) (Or.inl ⟨by rfl, ?_⟩) (by assumption) ?_; rotate_left
      · (intro w hSw; (try dsimp only at hSw); go_simp; try with_reducible rfl)
      try simp only [List.getElem_toArray, List.getElem_cons_zero, List.getElem_cons_succ, Act.put, List.setIfInBounds_toArray, List.set_cons_zero, List.set_cons_succ]
      refine wpAnyH_take (i := 6) (v := ?_) rfl (by kernel_rfl) (by kernel_rfl) (by kernel_rfl) (fun _ _ _ h => h) (Or.inl ⟨by rfl, ?_⟩) (by assumption) ?_; rotate_left
      · (intro w hSw; (try dsimp only at hSw); go_simp; try with_reducible rfl)
      try simp only [List.getElem_toArray, List.getElem_cons_zero, List.getElem_cons_succ, Act.put, List.setIfInBounds_toArray, List.set_cons_zero, List.set_cons_succ]
      refine wpAnyH_take (i := 7) (v := ?_) rfl (by kernel_rfl) (by kernel_rfl) (by kernel_rfl) (fun _ _ _ h => h) (Or.inl ⟨by rfl, ?_⟩) (by assumption) ?_; rotate_left
      · (intro w hSw; (try dsimp only at hSw); go_simp; try with_reducible rfl)
      try simp only [List.getElem_toArray, List.getElem_cons_zero, List.getElem_cons_succ, Act.put, List.setIfInBounds_toArray, List.set_cons_zero, List.set_cons_succ]
      refine wpAnyH_take (i := 8) (v := ?_) rfl (by kernel_rfl) (by kernel_rfl) (by kernel_rfl) (fun _ _ _ h => h) (Or.inl ⟨by rfl, ?_⟩) (by assumption) ?_; rotate_left
      · (intro w hSw; (try dsimp only at hSw); go_simp; try with_reducible rfl)
      try simp only [List.getElem_toArray, List.getElem_cons_zero, List.getElem_cons_succ, Act.put, List.setIfInBounds_toArray, List.set_cons_zero, List.set_cons_succ]
      refine wpAnyH_take (i := 9) (v := ?_) rfl (by kernel_rfl) (by kernel_rfl) (by kernel_rfl) (fun _ _ _ h => h) (Or.inl ⟨by rfl, ?_⟩) (by assumption) ?_; rotate_left
      · (intro w hSw; (try dsimp only at hSw); go_simp; try with_reducible rfl)
      try simp only [List.getElem_toArray, List.getElem_cons_zero, List.getElem_cons_succ, Act.put, List.setIfInBounds_toArray, List.set_cons_zero, List.set_cons_succ]
      refine wpAnyH_take (i := 10) (v := ?_) rfl (by kernel_rfl) (by kernel_rfl) (by kernel_rfl) (fun _ _ _ h => h) (Or.inl ⟨by rfl, ?_⟩) (by assumption) ?_; rotate_left
      · (intro w hSw; (try dsimp only at hSw); go_simp; try with_reducible rfl)
      try simp only [List.getElem_toArray, List.getElem_cons_zero, List.getElem_cons_succ, Act.put, List.setIfInBounds_toArray, List.set_cons_zero, List.set_cons_succ]
      refine wpAnyH_take (i := 11) (v := ?_) rfl (by kernel_rfl) (by kernel_rfl) (by kernel_rfl) (fun _ _ _ h => h) (Or.inl ⟨by rfl, ?_⟩) (by assumption) ?_; rotate_left
      · (intro w hSw; (try dsimp only at hSw); go_simp; try with_reducible rfl)
      try simp only [List.getElem_toArray, List.getElem_cons_zero, List.getElem_cons_succ, Act.put, List.setIfInBounds_toArray, List.set_cons_zero, List.set_cons_succ]
      refine wpAnyH_take (i := 12) (v := ?_) rfl (by kernel_rfl) (by kernel_rfl) (by kernel_rfl) (fun _ _ _ h => h) (Or.inl ⟨by rfl, ?_⟩) (by assumption) ?_; rotate_left
      · (intro w hSw; (try dsimp only at hSw); go_simp; try with_reducible rfl)
      try simp only [List.getElem_toArray, List.getElem_cons_zero, List.getElem_cons_succ, Act.put, List.setIfInBounds_toArray, List.set_cons_zero, List.set_cons_succ]
      refine wpAnyH_take (i := 14) (v := ?_) rfl (by kernel_rfl) (by kernel_rfl) (by kernel_rfl) (fun _ _ _ h => h) (Or.inl ⟨by rfl, ?_⟩) (by assumption) ?_; rotate_left
      · (intro w hSw; (try dsimp only at hSw); go_simp; try with_reducible rfl)
      try simp only [List.getElem_toArray, List.getElem_cons_zero, List.getElem_cons_succ, Act.put, List.setIfInBounds_toArray, List.set_cons_zero, List.set_cons_succ]
      refine wpAnyH_take (i := 17) (v := ?_) rfl (by kernel_rfl) (by kernel_rfl) (by kernel_rfl) (fun _ _ _ h => h) (Or.inl ⟨by rfl, ?_⟩) (by assumption) ?_; rotate_left
      · (intro w hSw; (try dsimp only at hSw); go_simp; try with_reducible rfl)
      try simp only [List.getElem_toArray, List.getElem_cons_zero, List.getElem_cons_succ, Act.put, List.setIfInBounds_toArray, List.set_cons_zero, List.set_cons_succ]
      refine wpAnyH_take (i := 18) (v := ?_) rfl (by kernel_rfl) (by kernel_rfl) (by kernel_rfl) (fun _ _ _ h => h) (Or.inl ⟨by rfl, ?_⟩) (by assumption) ?_; rotate_left
      · (intro w hSw; (try dsimp only at hSw); go_simp; try with_reducible rfl)
      try simp only [List.getElem_toArray, List.getElem_cons_zero, List.getElem_cons_succ, Act.put, List.setIfInBounds_toArray, List.set_cons_zero, List.set_cons_succ]
      refine wpAnyH_take (i := 19) (v := ?_) rfl (by kernel_rfl) (by kernel_rfl) (by kernel_rfl) (fun _ _ _ h => h) (Or.inl ⟨by rfl, ?_⟩) (by assumption) ?_; rotate_left
      · (intro w hSw; (try dsimp only at hSw); go_simp; try with_reducible rfl)
      try simp only [List.getElem_toArray, List.getElem_cons_zero, List.getElem_cons_succ, Act.put, List.setIfInBounds_toArray, List.set_cons_zero, List.set_cons_succ]
      refine wpAnyH_take (i := 20) (v := ?_) rfl (by kernel_rfl) (by kernel_rfl) (by kernel_rfl) (fun _ _ _ h => h) (Or.inl ⟨by rfl, ?_⟩) (by assumption) ?_; rotate_left
      · (intro w hSw; (try dsimp only at hSw); go_simp; try with_reducible rfl)
      try simp only [List.getElem_toArray, List.getElem_cons_zero, List.getElem_cons_succ, Act.put, List.setIfInBounds_toArray, List.set_cons_zero, List.set_cons_succ]
      refine wpAnyH_take (i := 21) (v := ?_) rfl (by kernel_rfl) (by kernel_rfl) (by kernel_rfl) (fun _ _ _ h => h) (Or.inl ⟨by rfl, ?_⟩) (by assumption) ?_; rotate_left
      · (intro w hSw; (try dsimp only at hSw); go_simp; try with_reducible rfl)
      try simp only [List.getElem_toArray, List.getElem_cons_zero, List.getElem_cons_succ, Act.put, List.setIfInBounds_toArray, List.set_cons_zero, List.set_cons_succ]
      refine wpAnyH_ready (rs := [13]) (by kernel_rfl) (by simp) ?_
      refine AllReadyH.cons rfl (fun K hK => ?_) AllReadyH.nil
      refine step_run (by rfl) (exec_convert _ _ _ (by rfl) (by simp [Act.eval]) hcvt) ?_
      refine hK.out _ _ hS7 (fun hHeld => ?_)
      clear hK K
      try simp only [List.getElem_toArray, List.getElem_cons_zero, List.getElem_cons_succ, Act.put, List.setIfInBounds_toArray, List.set_cons_zero, List.set_cons_succ]
      refine wpAnyH_ready (rs := [15]) (by kernel_rfl) (by simp) ?_
      refine AllReadyH.cons rfl (fun K hK => ?_) AllReadyH.nil
      refine step_run (by rfl) (exec_append _ _ _ _ (by rfl) (by simp [Act.eval]) (by simp [Act.eval]) hrun) ?_
      refine hK.out _ _ hS8 (fun hHeld => ?_)
      clear hK K
      try simp only [List.getElem_toArray, List.getElem_cons_zero, List.getElem_cons_succ, Act.put, List.setIfInBounds_toArray, List.set_cons_zero, List.set_cons_succ]
      refine wpAnyH_ready (rs := [16]) (by kernel_rfl) (by simp) ?_
      refine AllReadyH.cons rfl (fun K hK => ?_) AllReadyH.nil
      go_simp
      go_at_call 9; refine (get_at _ _ _ (unit y ++ L) _ hF8.out hB8'.out (by rw [List.length_append, hul]) (by omega) _ hgt.out).mono ?_; rintro e w9 ⟨rfl, hg9⟩; simp only [Res.err, Res.n, Res.k, Res.a]; have hS9 := hg9.cell hS8 (by simp); try dsimp only
      refine hK.out _ _ hS9 (fun hHeld => ?_)
      clear hK K
      try simp only [List.getElem_toArray, List.getElem_cons_zero, List.getElem_cons_succ, Act.put, List.setIfInBounds_toArray, List.set_cons_zero, List.set_cons_succ]
      refine wpAnyH_take (i := 22) (v := ?_) rfl (by kernel_rfl) (by kernel_rfl) (by kernel_rfl) (fun _ _ _ h => h) (Or.inl ⟨by rfl, ?_⟩) (by assumption) ?_; rotate_left
      · (intro w hSw; (try dsimp only at hSw); go_simp; try with_reducible rfl)
      try simp only [List.getElem_toArray, List.getElem_cons_zero, List.getElem_cons_succ, Act.put, List.setIfInBounds_toArray, List.set_cons_zero, List.set_cons_succ]
      refine wpAnyH_take (i := 23) (v := ?_) rfl (by kernel_rfl) (by kernel_rfl) (by kernel_rfl) (fun _ _ _ h => h) (Or.inl ⟨by rfl, ?_⟩) (by assumption) ?_; rotate_left
      · (intro w hSw; (try dsimp only at hSw); go_simp; try with_reducible rfl)
      try simp only [List.getElem_toArray, List.getElem_cons_zero, List.getElem_cons_succ, Act.put, List.setIfInBounds_toArray, List.set_cons_zero, List.set_cons_succ]
      refine wpAnyH_take (i := 24) (v := ?_) rfl (by kernel_rfl) (by kernel_rfl) (by kernel_rfl) (fun _ _ _ h => h) (Or.inl ⟨by rfl, ?_⟩) (by assumption) ?_; rotate_left
      · (intro w hSw; (try dsimp only at hSw); go_simp; try with_reducible rfl)
      try simp only [List.getElem_toArray, List.getElem_cons_zero, List.getElem_cons_succ, Act.put, List.setIfInBounds_toArray, List.set_cons_zero, List.set_cons_succ]
      refine wpAnyH_done (by kernel_rfl) ?_ _
      go_wp2
      go_ret
      exact ⟨rfl, (Below.refl _ w).grown (grownBy_trans hG8.out hg9) (Nat.le_refl _) (by simp)⟩
    · have hu : scB u = false := by simpa using hu
      have hn0 := Hid.mk' (fun w => set_none u w hu)
      go_wp2_with (first | (go_at_call 11; refine (hn0.out _).mono ?_; rintro e w5 ⟨rfl, hg5⟩) | (go_at_call 18; refine (scalar_ref _ _).mono ?_; rintro e w' ⟨rfl, hw⟩; obtain rfl := hw.symm))
      go_ret
      exact ⟨rfl, (Below.refl _ w).grown (grownBy_trans hgw.out (grownBy_trans hg5 (World.grownBy_alloc _ _ _))) (Nat.le_refl _) (by simp)⟩
  | ill q =>
    go_enter Tryd.func6, Tryd.ntmps6
    go_wp2_with (first | (go_at_call 17; refine hw.mono ?_; rintro e w1 ⟨rfl, hg1⟩; clear hw) | (go_at_call 9; refine (get_at _ _ _ L _ (hF0.out.kept0 hg1) (hB0.out.kept0 hg1) rfl (by omega) _ hR.out).mono ?_; rintro e w2 ⟨rfl, hg2⟩; simp only [Res.err, Res.n, Res.k, Res.a]))
    have hg3 : Hid (w.grownBy (w2.alloc (.cells #[.int .i64 10, .int .i64 (q : Int), .int .i64 0, .int .i32 0, .int .i32 0, .int .i64 0, .int .i64 0, .int .u32 0, .int .i32 0] 28)) none) := grownBy_trans hg1 (grownBy_trans hg2 (World.grownBy_alloc _ _ _))
    have l0 := cell_at (heap_alloc_new w2 (.cells #[.int .i64 10, .int .i64 (q : Int), .int .i64 0, .int .i32 0, .int .i32 0, .int .i64 0, .int .i64 0, .int .u32 0, .int .i32 0] 28)) 0 (v := .int .i64 10) rfl
    generalize w2.alloc (.cells #[.int .i64 10, .int .i64 (q : Int), .int .i64 0, .int .i32 0, .int .i32 0, .int .i64 0, .int .i64 0, .int .u32 0, .int .i32 0] 28) = w3 at *
    generalize w2.heap.size = fb at *
    clear hg1 hg2
    go_quiet (fail)
    have hg4 : w3.grownBy (w3.drewN nq) none := ⟨rfl, rfl, rfl, Nat.le_refl _, fun _ _ _ => rfl⟩
    generalize w3.drewN nq = w4 at *
    have hgw : Hid (w.grownBy w4 none) := grownBy_trans hg3.out hg4
    have hF4 := Hid.mk' (hF0.out.kept0 hgw.out)
    by_cases hu : scB u = true
    · obtain ⟨y, rfl⟩ := Int.eq_ofNat_of_zero_le (scB_iff.1 hu).1
      obtain ⟨p, hp⟩ : ∃ p, Hid (str (unit (y : Int).toNat) = p) := ⟨_, rfl⟩
      have hu' := Hid.mk' hu
      have hpd : Hid (p.data.toList = unit y) := by refine (?_ : _ = _); rw [← hp.out, Int.toNat_natCast, str_data]
      obtain ⟨m, hm⟩ : ∃ m, Hid (m = uk y + 1) := ⟨_, rfl⟩
      have hky := uk_le y
      have hmle : m ≤ 4 := by rw [hm.out]; omega
      have hps : p.size = m := by rw [← hp.out, Int.toNat_natCast, str_size, unit_length, hm.out]
      have hpl : p.data.toList.length = m := by rw [hpd.out, unit_length, hm.out]
      have hm1 : (1 : Int) ≤ (m : Int) := by rw [hm.out]; omega
      have hm2 : (m : Int) ≤ 4 := by omega
      have hd1 : decide ((1 : Int) ≤ (m : Int)) = true := decide_eq_true hm1
      have hd2 : decide ((m : Int) ≤ 4) = true := decide_eq_true hm2
      clear hky
      go_wp2_with (first | (go_at_call 11; refine (set_at (y : Int) _ hF4.out hu'.out p hp.out).mono ?_; rintro e w5 ⟨rfl, hg5⟩) | (go_at_call 18; refine (scalar_ref _ _).mono ?_; rintro e w' ⟨rfl, hw⟩; obtain rfl := hw.symm))
      have hg6 : Hid (w.grownBy (w5.alloc (.cells #[.int .i64 0, .string p, .int .i64 0, .int .i64 0, .int .u32 0, .int .i32 0] 32)) none) := grownBy_trans hgw.out (grownBy_trans hg5 (World.grownBy_alloc _ _ _))
      have q1 := cell_at (heap_alloc_new w5 (.cells #[.int .i64 0, .string p, .int .i64 0, .int .i64 0, .int .u32 0, .int .i32 0] 32)) 1 (v := .string p) rfl
      have hsz6 : w5.heap.size < (w5.alloc (.cells #[.int .i64 0, .string p, .int .i64 0, .int .i64 0, .int .u32 0, .int .i32 0] 32)).heap.size := by simp
      generalize w5.alloc (.cells #[.int .i64 0, .string p, .int .i64 0, .int .i64 0, .int .u32 0, .int .i32 0] 32) = w6 at *
      generalize w5.heap.size = pb at *
      obtain ⟨c7, w7, hcvt, hE7, hg7⟩ := conv_own (P := Tryd.prog) w6.drew 9 22 p Tryd.underlying9 Tryd.underlying22 Tryd.underlying5 (by omega)
      have hg67 : w6.grownBy w7 none := grownBy_of_drew hg7
      obtain ⟨i0, hi, hz0, hz1, hz2⟩ := info_parts info5b
      have hBw7 : Bytes w7 ao L := hB0.out.kept0 (grownBy_trans hg6.out hg67)
      rw [hpl] at hcvt
      obtain ⟨ao8, c8, w8, hrun, hB8, hg8⟩ := run_append_E (P := Tryd.prog) w7 22 22 22 i0 Tryd.underlying22 hi hz0 hz1 hz2 w6.drew.heap.size c7 p.data.toList hE7 (.slice ao L.length cap) L (src_of hBw7 22 cap Tryd.underlying22) (by omega)
      have hne : some pb ≠ some w6.drew.heap.size := by intro e; have := Option.some.inj e; have h : w6.drew.heap.size = w6.heap.size := rfl; omega
      have hS6 : w6.drew.cell? ⟨pb, 1, none⟩ = some (.string p) := q1
      have hS7 : w7.cell? ⟨pb, 1, none⟩ = some (.string p) := hg7.cell hS6 (by simp)
      have hS8 : w8.cell? ⟨pb, 1, none⟩ = some (.string p) := hg8.cell hS7 hne
      have hF8 : Hid (Forms w8) := by
        refine (?_ : Forms w8)
        have h7 : Forms w7 := hF0.out.kept0 (grownBy_trans hg6.out hg67)
        refine h7.kept hg8 ?_
        intro e
        have e' : w6.heap.size = 0 := Option.some.inj e
        omega
      have hG8 : Hid (w.grownBy w8 none) := by
        refine (?_ : w.grownBy w8 none)
        refine grownBy_new (grownBy_trans hg6.out hg67) hg8 ?_
        intro g e
        have e' : w6.heap.size = g := Option.some.inj e
        have := hg6.out.size
        omega
      have hB8' : Hid (Bytes w8 ao8 (unit y ++ L)) := by rw [hpd.out] at hB8; exact hB8
      have hgt : Hid (get (unit y ++ L) = .ok (unit y).length y) := get_unit hu'.out L
      have hul : (unit y).length = m := by rw [unit_length, hm.out]
      rw [List.length_append, hpl] at hrun
      clear hE7 hBw7 hB8 hg7 q1
      refine wp_region_held_drew (S := fun w' => w'.cell? ⟨pb, 1, none⟩ = some (.string p)) (by kernel_rfl) hS6 (fun hHeld => ?_)
      refine wpAnyH_take (i := 0) (v := ?_) rfl (by kernel_rfl) (by kernel_rfl) (by kernel_rfl) (fun _ _ _ h => h) (Or.inl ⟨by rfl, ?_⟩) (by assumption) ?_; rotate_left
      · (intro w hSw; (try dsimp only at hSw); go_simp; try with_reducible rfl)
      try simp only [List.getElem_toArray, List.getElem_cons_zero, Act.put, List.setIfInBounds_toArray, List.set_cons_zero, List.set_cons_succ]
      refine wpAnyH_take (i := 1) (v := ?_) rfl (by kernel_rfl) (by kernel_rfl) (by kernel_rfl) (fun _ _ _ h => h) (Or.inl ⟨by rfl, ?_⟩) (by assumption) ?_; rotate_left
      · (intro w hSw; (try dsimp only at hSw); go_simp; try with_reducible rfl)
      try simp only [List.getElem_toArray, List.getElem_cons_zero, List.getElem_cons_succ, Act.put, List.setIfInBounds_toArray, List.set_cons_zero, List.set_cons_succ]
      refine wpAnyH_take (i := 2) (v := ?_) rfl (by kernel_rfl) (by kernel_rfl) (by kernel_rfl) (fun _ _ _ h => h) (Or.inl ⟨by rfl, ?_⟩) (by assumption) ?_; rotate_left
      · (intro w hSw; (try dsimp only at hSw); go_simp; try with_reducible rfl)
      try simp only [List.getElem_toArray, List.getElem_cons_zero, List.getElem_cons_succ, Act.put, List.setIfInBounds_toArray, List.set_cons_zero, List.set_cons_succ]
      refine wpAnyH_take (i := 3) (v := ?_) rfl (by kernel_rfl) (by kernel_rfl) (by kernel_rfl) (fun _ _ _ h => h) (Or.inl ⟨by rfl, ?_⟩) (by assumption) ?_; rotate_left
      · (intro w hSw; (try dsimp only at hSw); go_simp; try with_reducible rfl)
      try simp only [List.getElem_toArray, List.getElem_cons_zero, List.getElem_cons_succ, Act.put, List.setIfInBounds_toArray, List.set_cons_zero, List.set_cons_succ]
      refine wpAnyH_take (i := 4) (v := ?_) rfl (by kernel_rfl) (by kernel_rfl) (by kernel_rfl) (fun _ _ _ h => h) (Or.inl ⟨by rfl, ?_⟩) (by assumption) ?_; rotate_left
      · (intro w hSw; (try dsimp only at hSw); go_simp; try with_reducible rfl)
      try simp only [List.getElem_toArray, List.getElem_cons_zero, List.getElem_cons_succ, Act.put, List.setIfInBounds_toArray, List.set_cons_zero, List.set_cons_succ]
      refine wpAnyH_take (i := 5) (v := ?_) rfl (by kernel_rfl) (by kernel_rfl) (by kernel_rfl) (fun _ _ _ h => h) (Or.inl ⟨by rfl, ?_⟩) (by assumption) ?_; rotate_left
      · (intro w hSw; (try dsimp only at hSw); go_simp; try with_reducible rfl)
      try simp only [List.getElem_toArray, List.getElem_cons_zero, List.getElem_cons_succ, Act.put, List.setIfInBounds_toArray, List.set_cons_zero, List.set_cons_succ]
      refine wpAnyH_take (i := 6) (v := ?_) rfl (by kernel_rfl) (by kernel_rfl) (by kernel_rfl) (fun _ _ _ h => h) (Or.inl ⟨by rfl, ?_⟩) (by assumption) ?_; rotate_left
      · (intro w hSw; (try dsimp only at hSw); go_simp; try with_reducible rfl)
      try simp only [List.getElem_toArray, List.getElem_cons_zero, List.getElem_cons_succ, Act.put, List.setIfInBounds_toArray, List.set_cons_zero, List.set_cons_succ]
      refine wpAnyH_take (i := 7) (v := ?_) rfl (by kernel_rfl) (by kernel_rfl) (by kernel_rfl) (fun _ _ _ h => h) (Or.inl ⟨by rfl, ?_⟩) (by assumption) ?_; rotate_left
      · (intro w hSw; (try dsimp only at hSw); go_simp; try with_reducible rfl)
      try simp only [List.getElem_toArray, List.getElem_cons_zero, List.getElem_cons_succ, Act.put, List.setIfInBounds_toArray, List.set_cons_zero, List.set_cons_succ]
      refine wpAnyH_take (i := 8) (v := ?_) rfl (by kernel_rfl) (by kernel_rfl) (by kernel_rfl) (fun _ _ _ h => h) (Or.inl ⟨by rfl, ?_⟩) (by assumption) ?_; rotate_left
      · (intro w hSw; (try dsimp only at hSw); go_simp; try with_reducible rfl)
      try simp only [List.getElem_toArray, List.getElem_cons_zero, List.getElem_cons_succ, Act.put, List.setIfInBounds_toArray, List.set_cons_zero, List.set_cons_succ]
      refine wpAnyH_take (i := 9) (v := ?_) rfl (by kernel_rfl) (by kernel_rfl) (by kernel_rfl) (fun _ _ _ h => h) (Or.inl ⟨by rfl, ?_⟩) (by assumption) ?_; rotate_left
      · (intro w hSw; (try dsimp only at hSw); go_simp; try with_reducible rfl)
      try simp only [List.getElem_toArray, List.getElem_cons_zero, List.getElem_cons_succ, Act.put, List.setIfInBounds_toArray, List.set_cons_zero, List.set_cons_succ]
      refine wpAnyH_take (i := 10) (v := ?_) rfl (by kernel_rfl) (by kernel_rfl) (by kernel_rfl) (fun _ _ _ h => h) (Or.inl ⟨by rfl, ?_⟩) (by assumption) ?_; rotate_left
      · (intro w hSw; (try dsimp only at hSw); go_simp; try with_reducible rfl)
      try simp only [List.getElem_toArray, List.getElem_cons_zero, List.getElem_cons_succ, Act.put, List.setIfInBounds_toArray, List.set_cons_zero, List.set_cons_succ]
      refine wpAnyH_take (i := 11) (v := ?_) rfl (by kernel_rfl) (by kernel_rfl) (by kernel_rfl) (fun _ _ _ h => h) (Or.inl ⟨by rfl, ?_⟩) (by assumption) ?_; rotate_left
      · (intro w hSw; (try dsimp only at hSw); go_simp; try with_reducible rfl)
      try simp only [List.getElem_toArray, List.getElem_cons_zero, List.getElem_cons_succ, Act.put, List.setIfInBounds_toArray, List.set_cons_zero, List.set_cons_succ]
      refine wpAnyH_take (i := 12) (v := ?_) rfl (by kernel_rfl) (by kernel_rfl) (by kernel_rfl) (fun _ _ _ h => h) (Or.inl ⟨by rfl, ?_⟩) (by assumption) ?_; rotate_left
      · (intro w hSw; (try dsimp only at hSw); go_simp; try with_reducible rfl)
      try simp only [List.getElem_toArray, List.getElem_cons_zero, List.getElem_cons_succ, Act.put, List.setIfInBounds_toArray, List.set_cons_zero, List.set_cons_succ]
      refine wpAnyH_take (i := 14) (v := ?_) rfl (by kernel_rfl) (by kernel_rfl) (by kernel_rfl) (fun _ _ _ h => h) (Or.inl ⟨by rfl, ?_⟩) (by assumption) ?_; rotate_left
      · (intro w hSw; (try dsimp only at hSw); go_simp; try with_reducible rfl)
      try simp only [List.getElem_toArray, List.getElem_cons_zero, List.getElem_cons_succ, Act.put, List.setIfInBounds_toArray, List.set_cons_zero, List.set_cons_succ]
      refine wpAnyH_take (i := 17) (v := ?_) rfl (by kernel_rfl) (by kernel_rfl) (by kernel_rfl) (fun _ _ _ h => h) (Or.inl ⟨by rfl, ?_⟩) (by assumption) ?_; rotate_left
      · (intro w hSw; (try dsimp only at hSw); go_simp; try with_reducible rfl)
      try simp only [List.getElem_toArray, List.getElem_cons_zero, List.getElem_cons_succ, Act.put, List.setIfInBounds_toArray, List.set_cons_zero, List.set_cons_succ]
      refine wpAnyH_take (i := 18) (v := ?_) rfl (by kernel_rfl) (by kernel_rfl) (by kernel_rfl) (fun _ _ _ h => h) (Or.inl ⟨by rfl, ?_⟩) (by assumption) ?_; rotate_left
      · (intro w hSw; (try dsimp only at hSw); go_simp; try with_reducible rfl)
      try simp only [List.getElem_toArray, List.getElem_cons_zero, List.getElem_cons_succ, Act.put, List.setIfInBounds_toArray, List.set_cons_zero, List.set_cons_succ]
      refine wpAnyH_take (i := 19) (v := ?_) rfl (by kernel_rfl) (by kernel_rfl) (by kernel_rfl) (fun _ _ _ h => h) (Or.inl ⟨by rfl, ?_⟩) (by assumption) ?_; rotate_left
      · (intro w hSw; (try dsimp only at hSw); go_simp; try with_reducible rfl)
      try simp only [List.getElem_toArray, List.getElem_cons_zero, List.getElem_cons_succ, Act.put, List.setIfInBounds_toArray, List.set_cons_zero, List.set_cons_succ]
      refine wpAnyH_take (i := 20) (v := ?_) rfl (by kernel_rfl) (by kernel_rfl) (by kernel_rfl) (fun _ _ _ h => h) (Or.inl ⟨by rfl, ?_⟩) (by assumption) ?_; rotate_left
      · (intro w hSw; (try dsimp only at hSw); go_simp; try with_reducible rfl)
      try simp only [List.getElem_toArray, List.getElem_cons_zero, List.getElem_cons_succ, Act.put, List.setIfInBounds_toArray, List.set_cons_zero, List.set_cons_succ]
      refine wpAnyH_take (i := 21) (v := ?_) rfl (by kernel_rfl) (by kernel_rfl) (by kernel_rfl) (fun _ _ _ h => h) (Or.inl ⟨by rfl, ?_⟩) (by assumption) ?_; rotate_left
      · (intro w hSw; (try dsimp only at hSw); go_simp; try with_reducible rfl)
      try simp only [List.getElem_toArray, List.getElem_cons_zero, List.getElem_cons_succ, Act.put, List.setIfInBounds_toArray, List.set_cons_zero, List.set_cons_succ]
      refine wpAnyH_ready (rs := [13]) (by kernel_rfl) (by simp) ?_
      refine AllReadyH.cons rfl (fun K hK => ?_) AllReadyH.nil
      refine step_run (by rfl) (exec_convert _ _ _ (by rfl) (by simp [Act.eval]) hcvt) ?_
      refine hK.out _ _ hS7 (fun hHeld => ?_)
      clear hK K
      try simp only [List.getElem_toArray, List.getElem_cons_zero, List.getElem_cons_succ, Act.put, List.setIfInBounds_toArray, List.set_cons_zero, List.set_cons_succ]
      refine wpAnyH_ready (rs := [15]) (by kernel_rfl) (by simp) ?_
      refine AllReadyH.cons rfl (fun K hK => ?_) AllReadyH.nil
      refine step_run (by rfl) (exec_append _ _ _ _ (by rfl) (by simp [Act.eval]) (by simp [Act.eval]) hrun) ?_
      refine hK.out _ _ hS8 (fun hHeld => ?_)
      clear hK K
      try simp only [List.getElem_toArray, List.getElem_cons_zero, List.getElem_cons_succ, Act.put, List.setIfInBounds_toArray, List.set_cons_zero, List.set_cons_succ]
      refine wpAnyH_ready (rs := [16]) (by kernel_rfl) (by simp) ?_
      refine AllReadyH.cons rfl (fun K hK => ?_) AllReadyH.nil
      go_simp
      go_at_call 9; refine (get_at _ _ _ (unit y ++ L) _ hF8.out hB8'.out (by rw [List.length_append, hul]) (by omega) _ hgt.out).mono ?_; rintro e w9 ⟨rfl, hg9⟩; simp only [Res.err, Res.n, Res.k, Res.a]; have hS9 := hg9.cell hS8 (by simp); try dsimp only
      refine hK.out _ _ hS9 (fun hHeld => ?_)
      clear hK K
      try simp only [List.getElem_toArray, List.getElem_cons_zero, List.getElem_cons_succ, Act.put, List.setIfInBounds_toArray, List.set_cons_zero, List.set_cons_succ]
      refine wpAnyH_take (i := 22) (v := ?_) rfl (by kernel_rfl) (by kernel_rfl) (by kernel_rfl) (fun _ _ _ h => h) (Or.inl ⟨by rfl, ?_⟩) (by assumption) ?_; rotate_left
      · (intro w hSw; (try dsimp only at hSw); go_simp; try with_reducible rfl)
      try simp only [List.getElem_toArray, List.getElem_cons_zero, List.getElem_cons_succ, Act.put, List.setIfInBounds_toArray, List.set_cons_zero, List.set_cons_succ]
      refine wpAnyH_take (i := 23) (v := ?_) rfl (by kernel_rfl) (by kernel_rfl) (by kernel_rfl) (fun _ _ _ h => h) (Or.inl ⟨by rfl, ?_⟩) (by assumption) ?_; rotate_left
      · (intro w hSw; (try dsimp only at hSw); go_simp; try with_reducible rfl)
      try simp only [List.getElem_toArray, List.getElem_cons_zero, List.getElem_cons_succ, Act.put, List.setIfInBounds_toArray, List.set_cons_zero, List.set_cons_succ]
      refine wpAnyH_take (i := 24) (v := ?_) rfl (by kernel_rfl) (by kernel_rfl) (by kernel_rfl) (fun _ _ _ h => h) (Or.inl ⟨by rfl, ?_⟩) (by assumption) ?_; rotate_left
      · (intro w hSw; (try dsimp only at hSw); go_simp; try with_reducible rfl)
      try simp only [List.getElem_toArray, List.getElem_cons_zero, List.getElem_cons_succ, Act.put, List.setIfInBounds_toArray, List.set_cons_zero, List.set_cons_succ]
      refine wpAnyH_done (by kernel_rfl) ?_ _
      go_wp2
      go_ret
      exact ⟨rfl, (Below.refl _ w).grown (grownBy_trans hG8.out hg9) (Nat.le_refl _) (by simp)⟩
    · have hu : scB u = false := by simpa using hu
      have hn0 := Hid.mk' (fun w => set_none u w hu)
      go_wp2_with (first | (go_at_call 11; refine (hn0.out _).mono ?_; rintro e w5 ⟨rfl, hg5⟩) | (go_at_call 18; refine (scalar_ref _ _).mono ?_; rintro e w' ⟨rfl, hw⟩; obtain rfl := hw.symm))
      go_ret
      exact ⟨rfl, (Below.refl _ w).grown (grownBy_trans hgw.out (grownBy_trans hg5 (World.grownBy_alloc _ _ _))) (Nat.le_refl _) (by simp)⟩
end Go.Proofs.YtbbegadpkpdiaaaDoor.U8
