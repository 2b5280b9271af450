/- The program's step that gets a scalar: a walk. -/
import Derived.Test.YtliaadlanpfjbaaDoorGot
import Derived.Deep.QuietTactic
import Derived.BigQuiet
namespace Go.Proofs.YtliaadlanpfjbaaDoor.U8
open Go.ChangeShapes Go.WideShapes Go.ChangeAt Go.RowKit Go.Proofs.YtliaadlanpfjbaaDoor.Mem Go.Proofs.YtliaadlanpfjbaaDoor.Ucs
set_option linter.unusedVariables false

abbrev zeroGot : Obj := .cells #[.int .i64 0, .int .i64 0, .int .i64 0, .int .i32 0, .int .i32 0, .int .i64 0, .int .i64 0, .int .u32 0, .int .i32 0] 59

theorem formOfByte_lit (b : Nat) (hb : b < 256) (w : World) (hF : Forms w) (t : Bool) (ht : decide (ix b < 4) = t) :
    Calls Tryd.prog 24 #[.int .u8 (b : Int)] w fun e w' => e = .returned (.tuple #[.agg #[.int .i64 (fsize (ix b) : Int), .int .u8 (fmask (ix b) : Int), .int .u8 (fmark (ix b) : Int), .int .i32 (fleast (ix b) : Int)], .bool t]) ∧ w.grownBy w' none := by
  subst ht; exact formOfByte_any b hb w hF

theorem leads_lit (k n u : Nat) (hk : k < 4) (hn : 1 ≤ n) (hs : n ≤ fsize k) (hu : u * 2 ^ (6 * (fsize k - n)) < 2097152) (w : World) (t : Bool) (ht : leads k n u = t) (v m : Int) (hv : v = (u : Int)) (hm : m = n) :
    Calls Tryd.prog 25 #[.agg #[.int .i64 (fsize k : Int), .int .u8 (fmask k : Int), .int .u8 (fmark k : Int), .int .i32 (fleast k : Int)], .int .i32 v, .int .i64 m] w fun e w' => e = .returned (.bool t) ∧ w.grownBy w' none := by
  subst ht; subst hm; subst hv; exact leads_any k n u hk hn hs hu w

theorem Hid.mk' {p : Prop} (h : p) : Hid p := h
/-- Where the step stands: its result's block, the form's block, and only new blocks. -/
structure St (w : World) (fb k : Nat) (wx : World) : Prop where
  g : (w.alloc zeroGot).grownBy wx none
  form : wx.heap[fb]? = some (.cells (formA k) 64 (0, 0))
theorem St.res {w wx : World} {fb k : Nat} (h : St w fb k wx) : wx.heap[w.heap.size]? = some zeroGot := res_cells h.g
theorem St.next {w wx wy : World} {fb k : Nat} (h : St w fb k wx) (hg : wx.grownBy wy none) : St w fb k wy :=
  ⟨grownBy_trans h.g hg, by rw [hg.block _ (lt_of_block h.form) (by simp)]; exact h.form⟩
theorem St.grown {w wx : World} {fb k : Nat} (h : St w fb k wx) : w.grownBy wx none := grownBy_trans (World.grownBy_alloc _ _ _) h.g
theorem St.byte {w wx : World} {fb k : Nat} (h : St w fb k wx) {b o : Nat} {L : List UInt8} (hB : Bytes w (some ⟨b, o, none⟩) L) {j : Nat} (hj : j < L.length) : wx.cell? ⟨b, o + j, none⟩ = some (.int .u8 (L[j].toNat : Int)) := by
  obtain ⟨b', o', e, hc⟩ := Bytes.at (hB.kept0 h.grown) (List.ne_nil_of_length_pos (by omega))
  cases e
  exact hc j hj
theorem grownBy_sets9 (wx : World) (b : Nat) (v0 v1 v2 v3 v4 v5 v6 v7 v8 : Value) :
    wx.grownBy (((((((((wx.setCell ⟨b, 0, none⟩ v0).setCell ⟨b, 1, none⟩ v1).setCell ⟨b, 2, none⟩ v2).setCell ⟨b, 3, none⟩ v3).setCell ⟨b, 4, none⟩ v4).setCell ⟨b, 5, none⟩ v5).setCell ⟨b, 6, none⟩ v6).setCell ⟨b, 7, none⟩ v7).setCell ⟨b, 8, none⟩ v8) (some b) := by
  have h1 := fun (u : World) (x : Nat) (v : Value) => grownBy_setCell u ⟨b, x, none⟩ v
  exact grownBy_trans (grownBy_trans (grownBy_trans (grownBy_trans (grownBy_trans (grownBy_trans (grownBy_trans (grownBy_trans (h1 _ _ _) (h1 _ _ _)) (h1 _ _ _)) (h1 _ _ _)) (h1 _ _ _)) (h1 _ _ _)) (h1 _ _ _)) (h1 _ _ _)) (h1 _ _ _)
theorem grownBy_drewN (w : World) (n : Nat) : w.grownBy (w.drewN n) none := ⟨rfl, rfl, rfl, Nat.le_refl _, fun _ _ _ => rfl⟩
theorem St.wrote {w wx : World} {fb k : Nat} (h : St w fb k wx) {wy : World} (hy : wx.grownBy wy (some w.heap.size)) : w.grownBy wy none := sets_new h.grown (Nat.le_refl _) hy

theorem goOn_end {k n u : Nat} {r : List UInt8} (h : ¬ n < fsize k) : goOn k n u r = .ok (fsize k) u := by cases r <;> simp [goOn, h]
theorem drop_at (L : List UInt8) (n : Nat) (h : n < L.length) : L.drop n = L[n] :: L.drop (n + 1) := List.drop_eq_getElem_cons h

set_option maxRecDepth 100000 in
set_option maxHeartbeats 4000000 in
theorem get_any (ao : Option Addr) (cap : Nat) (L : List UInt8) (w : World) (hF : Forms w) (hB : Bytes w ao L) (hl : L.length ≤ 140737488355328) :
    Calls Tryd.prog 18 #[.slice ao L.length cap] w fun e w' => e = .returned (get L).val ∧ w.grownBy w' none := by
  have hF1 : Hid (Forms (w.alloc zeroGot)) := hF.alloc _
  by_cases hnil : L = []
  · subst hnil
    clear hF hB
    simp only [List.length_nil]
    go_enter Tryd.func18, Tryd.ntmps18
    go_wp2
    refine bodyPost_ret (v := gotV 1 0 0 0) (by simp [results, Tryd.results18, go_sem]) rfl ⟨rfl, ?_⟩
    exact World.grownBy_alloc _ _ _
  · obtain ⟨c, r, rfl⟩ := List.exists_cons_of_ne_nil hnil
    obtain ⟨b, o, rfl, _⟩ := Bytes.at hB (by simp)
    have hBw : Hid (Bytes w (some ⟨b, o, none⟩) (c :: r)) := hB
    have x0 : (w.alloc zeroGot).cell? ⟨b, o, none⟩ = some (.int .u8 (c.toNat : Int)) := by
      obtain ⟨b', o', e, h⟩ := Bytes.at (hB.alloc zeroGot) (by simp)
      cases e
      exact h 0 (by simp)
    have hbc := u8_lt c
    have hlen : (c :: r).length = r.length + 1 := rfl
    rw [hlen] at hl ⊢
    clear hF hB hnil hlen
    by_cases hk : ix c.toNat < 4
    · obtain ⟨u0, hu0⟩ : ∃ u0 : Nat, u0 = c.toNat - fmark (ix c.toNat) := ⟨_, rfl⟩
      have hget : Hid (get (c :: r) = if leads (ix c.toNat) 1 u0 = true then goOn (ix c.toNat) 1 u0 r else .ill 1) := by
        refine (?_ : get (c :: r) = _)
        rw [hu0]; simp only [get, hk, true_and]
      have hand := andNot_form c.toNat hbc hk
      rw [← hu0] at hand
      have hu0b : u0 * 2 ^ (6 * (fsize (ix c.toNat) - 1)) < 2097152 := by
        rw [hu0]
        exact (show ∀ b : Fin 256, ix (b : Nat) < 4 → ((b : Nat) - fmark (ix b)) * 2 ^ (6 * (fsize (ix b) - 1)) < 2097152 by decide +kernel) ⟨c.toNat, hbc⟩ hk
      have hu0c : u0 < 256 := by omega
      have hfs : 1 ≤ fsize (ix c.toNat) := (show ∀ k : Fin 4, 1 ≤ fsize k by decide) ⟨_, hk⟩
      clear hu0
      go_enter Tryd.func18, Tryd.ntmps18
      go_wp2_with (go_at_call 24; refine (formOfByte_lit c.toNat hbc _ hF1.out true (decide_eq_true hk)).mono ?_; rintro e w1 ⟨rfl, hg1⟩)
      have st : Hid (St w w1.heap.size (ix c.toNat) (w1.alloc (.cells #[.int .i64 (fsize (ix c.toNat) : Int), .int .u8 (fmask (ix c.toNat) : Int), .int .u8 (fmark (ix c.toNat) : Int), .int .i32 (fleast (ix c.toNat) : Int)] 64))) :=
        (⟨grownBy_trans hg1 (World.grownBy_alloc _ _ _), heap_alloc_new w1 _⟩ : St _ _ _ _)
      have x1 := st.out.byte hBw.out (j := 0) (by simp)
      simp only [Nat.add_zero, List.getElem_cons_zero] at x1
      have m1 := cell_at st.out.form 1 (v := .int .u8 (fmask (ix c.toNat) : Int)) rfl
      have l0 := cell_at st.out.form 0 (v := .int .i64 (fsize (ix c.toNat) : Int)) rfl
      have l2 := cell_at st.out.form 2 (v := .int .u8 (fmark (ix c.toNat) : Int)) rfl
      have l3 := cell_at st.out.form 3 (v := .int .i32 (fleast (ix c.toNat) : Int)) rfl
      generalize w1.alloc (.cells #[.int .i64 (fsize (ix c.toNat) : Int), .int .u8 (fmask (ix c.toNat) : Int), .int .u8 (fmark (ix c.toNat) : Int), .int .i32 (fleast (ix c.toNat) : Int)] 64) = w2 at *
      generalize w1.heap.size = fb at *
      clear hg1 x0
      go_quiet (fail)
      have st3 : Hid (St w fb (ix c.toNat) (w2.drewN nq)) := st.out.next (grownBy_drewN _ _)
      cases hld : leads (ix c.toNat) 1 u0 with
      | false =>
        have hres : Hid (get (c :: r) = .ill 1) := by
          refine (?_ : get (c :: r) = _)
          rw [hget.out, hld]; rfl
        go_wp2_with (first | (go_at_call 25; refine (leads_lit (ix c.toNat) 1 u0 hk (by omega) hfs hu0b _ false hld _ 1 rfl rfl).mono ?_; rintro e w3 ⟨rfl, hg3⟩) | (go_at_call 26; refine (illegal_any _ _).mono ?_; rintro e w4 ⟨rfl, hg4⟩; have st4 := Hid.mk' ((st3.out.next hg3).next hg4); have hr4 := st4.out.res; have r0 := cell_at hr4 0 rfl; have r1 := cell_at hr4 1 rfl; have r2 := cell_at hr4 2 rfl; have r3 := cell_at hr4 3 rfl; have r4 := cell_at hr4 4 rfl; have r5 := cell_at hr4 5 rfl; have r6 := cell_at hr4 6 rfl; have r7 := cell_at hr4 7 rfl; have r8 := cell_at hr4 8 rfl; have fz := froz_at hr4; clear hr4))
        refine bodyPost_ret (v := gotV 10 1 0 0) (by simp [results, Tryd.results18, go_sem, r0, r1, r2, r3, r4, r5, r6, r7, r8]) rfl ⟨by rw [hres.out]; rfl, ?_⟩
        exact st4.out.wrote (grownBy_sets9 _ _ _ _ _ _ _ _ _ _ _)
      | true =>
        have hres : Hid (get (c :: r) = goOn (ix c.toNat) 1 u0 r) := by
          refine (?_ : get (c :: r) = _)
          rw [hget.out, hld]; rfl
        go_wp2_with (go_at_call 25; refine (leads_lit (ix c.toNat) 1 u0 hk (by omega) hfs hu0b _ true hld _ 1 rfl rfl).mono ?_; rintro e w3 ⟨rfl, hg3⟩)
        have st5 : Hid (St w fb (ix c.toNat) w3) := st3.out.next hg3
        generalize ix c.toNat = k at *
        go_loopw [5, 6] (fun t5 t6 wx => ∃ n u : Nat, 1 ≤ n ∧ n ≤ fsize k ∧ n ≤ r.length + 1 ∧ t5 = .int .i32 (u : Int) ∧ t6 = .int .i64 (n : Int) ∧ leads k n u = true ∧ Hid (goOn k n u ((c :: r).drop n) = get (c :: r)) ∧ Hid (St w fb k wx)) (fun _ t6 _ => 4 - (intOf t6).toNat)
        case atStart => exact ⟨1, u0, by omega, hfs, by omega, rfl, rfl, hld, hres.out.symm, st5⟩
        case round =>
          obtain ⟨n, u, hn1, hn2, hn3, rfl, rfl, hlu, hgo, stx⟩ := hrel
          have hb := leads_bound hlu
          have h4 := fsize_le k
          have f0 := cell_at stx.out.form 0 (v := .int .i64 (fsize k : Int)) rfl
          have f1 := cell_at stx.out.form 1 (v := .int .u8 (fmask k : Int)) rfl
          have f2 := cell_at stx.out.form 2 (v := .int .u8 (fmark k : Int)) rfl
          have f3 := cell_at stx.out.form 3 (v := .int .i32 (fleast k : Int)) rfl
          have hrx := stx.out.res
          clear x1 m1 l0 l2 l3
          by_cases hend : n < fsize k
          · by_cases hlast : n = r.length + 1
            · have hres' : Hid (get (c :: r) = .more) := by
                refine (?_ : get (c :: r) = _)
                rw [← hgo.out, List.drop_eq_nil_of_le (by simp; omega)]
                simp [goOn, hend]
              have r0 := cell_at hrx 0 rfl; have r1 := cell_at hrx 1 rfl; have r2 := cell_at hrx 2 rfl; have r3 := cell_at hrx 3 rfl; have r4 := cell_at hrx 4 rfl; have r5 := cell_at hrx 5 rfl; have r6 := cell_at hrx 6 rfl; have r7 := cell_at hrx 7 rfl; have r8 := cell_at hrx 8 rfl
              have fz := froz_at hrx
              clear hrx
              have hlast' : (n : Int) = (r.length : Int) + 1 := by omega
              go_wp2
              refine bodyPost_ret (v := gotV 1 0 0 0) (by simp [results, Tryd.results18, go_sem, r0, r1, r2, r3, r4, r5, r6, r7, r8]) rfl ⟨by rw [hres'.out]; rfl, ?_⟩
              exact stx.out.wrote (grownBy_sets9 _ _ _ _ _ _ _ _ _ _ _)
            · have hlt : n < (c :: r).length := by simp; omega
              obtain ⟨d, hd⟩ : ∃ d, d = (c :: r)[n] := ⟨_, rfl⟩
              have xd := stx.out.byte hBw.out hlt
              rw [← hd] at xd
              have hbd := u8_lt d
              have hat := andNot_tail d.toNat hbd
              have hstep : Hid (get (c :: r) = if d.toNat / 64 = 2 ∧ leads k (n + 1) (u * 64 + d.toNat % 64) = true then goOn k (n + 1) (u * 64 + d.toNat % 64) ((c :: r).drop (n + 1)) else .ill n) := by
                refine (?_ : get (c :: r) = _)
                rw [← hgo.out, drop_at _ _ hlt, ← hd]
                simp only [goOn, hend, if_true]
              have hnext := leads_next (c := d.toNat) hlu hn1 hend
              have hn' : decide ((n : Int) < (fsize k : Int)) = true := decide_eq_true (by omega)
              have hu64 : u ≤ 17407 := by
                have h1 : 2 ^ 6 ≤ 2 ^ (6 * (fsize k - n)) := Nat.pow_le_pow_right (by omega) (by omega)
                have h2 := Nat.mul_le_mul_left u h1
                omega
              have hd64 : d.toNat % 64 < 64 := Nat.mod_lt _ (by omega)
              have hor : bits .or .i32 ((u : Int) * 64) ((d.toNat % 64 : Nat) : Int) = ((u * 64 + d.toNat % 64 : Nat) : Int) := by
                have := i32_or 6 u (d.toNat % 64) (u * 64) (by omega) hd64 rfl (by omega)
                simpa using this
              have hne : (n : Int) ≠ (r.length : Int) + 1 := by omega
              have hmask := and_tail d.toNat hbd
              clear hd hrx hgo
              by_cases htl : d.toNat / 64 = 2
              · rw [decide_eq_true htl] at hmask
                have hmask : bits .and .u8 (d.toNat : Int) 192 = 128 := by simpa using hmask
                cases hl2 : leads k (n + 1) (u * 64 + d.toNat % 64) with
                | false =>
                  have hres' : Hid (get (c :: r) = .ill n) := by
                    refine (?_ : get (c :: r) = _)
                    rw [hstep.out, hl2]; simp
                  clear hstep
                  generalize hm : d.toNat % 64 = m at *
                  go_wp2_with (first | (go_at_call 25; refine (leads_lit k (n + 1) (u * 64 + m) hk (by omega) (by omega) hnext _ false hl2 _ _ (by omega) (by omega)).mono ?_; rintro e w3 ⟨rfl, hg3⟩) | (go_at_call 26; refine (illegal_any _ _).mono ?_; rintro e w4 ⟨rfl, hg4⟩; have st4 := Hid.mk' ((stx.out.next hg3).next hg4); have hr4 := st4.out.res; have r0 := cell_at hr4 0 rfl; have r1 := cell_at hr4 1 rfl; have r2 := cell_at hr4 2 rfl; have r3 := cell_at hr4 3 rfl; have r4 := cell_at hr4 4 rfl; have r5 := cell_at hr4 5 rfl; have r6 := cell_at hr4 6 rfl; have r7 := cell_at hr4 7 rfl; have r8 := cell_at hr4 8 rfl; have fz := froz_at hr4; clear hr4))
                  refine bodyPost_ret (v := gotV 10 (n : Int) 0 0) (by simp [results, Tryd.results18, go_sem, r0, r1, r2, r3, r4, r5, r6, r7, r8]) rfl ⟨by rw [hres'.out]; rfl, ?_⟩
                  exact st4.out.wrote (grownBy_sets9 _ _ _ _ _ _ _ _ _ _ _)
                | true =>
                  have hgo' : Hid (goOn k (n + 1) (u * 64 + d.toNat % 64) ((c :: r).drop (n + 1)) = get (c :: r)) := by
                    refine (?_ : _ = get (c :: r))
                    rw [hstep.out, hl2]; simp [htl]
                  clear hstep
                  generalize hm : d.toNat % 64 = m at *
                  go_wp2_with (go_at_call 25; refine (leads_lit k (n + 1) (u * 64 + m) hk (by omega) (by omega) hnext _ true hl2 _ _ (by omega) (by omega)).mono ?_; rintro e w3 ⟨rfl, hg3⟩)
                  go_roundw
                  case rel => exact ⟨n + 1, u * 64 + m, by omega, by omega, by omega, rfl, by go_num, hl2, hgo', stx.out.next hg3⟩
                  case measure => simp [intOf]; omega
              · rw [decide_eq_false htl] at hmask
                have hmask' : ¬ bits .and .u8 (d.toNat : Int) 192 = 128 := by simpa using hmask
                have hres' : Hid (get (c :: r) = .ill n) := by
                  refine (?_ : get (c :: r) = _)
                  rw [hstep.out]; simp [htl]
                clear hstep
                generalize hm : d.toNat % 64 = m at *
                go_wp2_with (go_at_call 26; refine (illegal_any _ _).mono ?_; rintro e w4 ⟨rfl, hg4⟩; have st4 := Hid.mk' (stx.out.next hg4); have hr4 := st4.out.res; have r0 := cell_at hr4 0 rfl; have r1 := cell_at hr4 1 rfl; have r2 := cell_at hr4 2 rfl; have r3 := cell_at hr4 3 rfl; have r4 := cell_at hr4 4 rfl; have r5 := cell_at hr4 5 rfl; have r6 := cell_at hr4 6 rfl; have r7 := cell_at hr4 7 rfl; have r8 := cell_at hr4 8 rfl; have fz := froz_at hr4; clear hr4)
                refine bodyPost_ret (v := gotV 10 (n : Int) 0 0) (by simp [results, Tryd.results18, go_sem, r0, r1, r2, r3, r4, r5, r6, r7, r8]) rfl ⟨by rw [hres'.out]; rfl, ?_⟩
                exact st4.out.wrote (grownBy_sets9 _ _ _ _ _ _ _ _ _ _ _)
          · have hn : n = fsize k := by omega
            have hres' : Hid (get (c :: r) = .ok (fsize k) u) := by
              refine (?_ : get (c :: r) = _)
              rw [← hgo.out, goOn_end hend]
            have r0 := cell_at hrx 0 rfl; have r1 := cell_at hrx 1 rfl; have r2 := cell_at hrx 2 rfl; have r3 := cell_at hrx 3 rfl; have r4 := cell_at hrx 4 rfl; have r5 := cell_at hrx 5 rfl; have r6 := cell_at hrx 6 rfl; have r7 := cell_at hrx 7 rfl; have r8 := cell_at hrx 8 rfl
            have fz := froz_at hrx
            clear hrx
            have hn' : decide ((n : Int) < (fsize k : Int)) = false := decide_eq_false (by omega)
            go_wp2
            refine bodyPost_ret (v := gotV 0 (fsize k : Int) 1 (u : Int)) (by simp [results, Tryd.results18, go_sem, r0, r1, r2, r3, r4, r5, r6, r7, r8]) rfl ⟨by rw [hres'.out]; rfl, ?_⟩
            exact stx.out.wrote (grownBy_sets9 _ _ _ _ _ _ _ _ _ _ _)
    · have hget : Hid (get (c :: r) = .ill 1) := by
        refine (?_ : get (c :: r) = _)
        simp [get, hk]
      have hand : bits .andNot .u8 (c.toNat : Int) (fmask (ix c.toNat) : Int) = (c.toNat : Int) := by
        have hix : ix c.toNat = 4 := by have := (ix_iff c.toNat hbc).2.2.2.2; omega
        rw [hix]
        exact (show ∀ b : Fin 256, bits .andNot .u8 ((b : Nat) : Int) 0 = ((b : Nat) : Int) by decide +kernel) ⟨c.toNat, hbc⟩
      go_enter Tryd.func18, Tryd.ntmps18
      go_wp2_with (go_at_call 24; refine (formOfByte_lit c.toNat hbc _ hF1.out false (decide_eq_false hk)).mono ?_; rintro e w1 ⟨rfl, hg1⟩)
      have st : Hid (St w w1.heap.size (ix c.toNat) (w1.alloc (.cells #[.int .i64 (fsize (ix c.toNat) : Int), .int .u8 (fmask (ix c.toNat) : Int), .int .u8 (fmark (ix c.toNat) : Int), .int .i32 (fleast (ix c.toNat) : Int)] 64))) :=
        (⟨grownBy_trans hg1 (World.grownBy_alloc _ _ _), heap_alloc_new w1 _⟩ : St _ _ _ _)
      have x1 := st.out.byte hBw.out (j := 0) (by simp)
      simp only [Nat.add_zero, List.getElem_cons_zero] at x1
      have m1 := cell_at st.out.form 1 (v := .int .u8 (fmask (ix c.toNat) : Int)) rfl
      generalize w1.alloc (.cells #[.int .i64 (fsize (ix c.toNat) : Int), .int .u8 (fmask (ix c.toNat) : Int), .int .u8 (fmark (ix c.toNat) : Int), .int .i32 (fleast (ix c.toNat) : Int)] 64) = w2 at *
      generalize w1.heap.size = fb at *
      clear hg1 x0
      go_quiet (fail)
      have st3 : Hid (St w fb (ix c.toNat) (w2.drewN nq)) := st.out.next (grownBy_drewN _ _)
      go_wp2_with (go_at_call 26; refine (illegal_any _ _).mono ?_; rintro e w4 ⟨rfl, hg4⟩; have st4 := Hid.mk' (st3.out.next hg4); have hr4 := st4.out.res; have r0 := cell_at hr4 0 rfl; have r1 := cell_at hr4 1 rfl; have r2 := cell_at hr4 2 rfl; have r3 := cell_at hr4 3 rfl; have r4 := cell_at hr4 4 rfl; have r5 := cell_at hr4 5 rfl; have r6 := cell_at hr4 6 rfl; have r7 := cell_at hr4 7 rfl; have r8 := cell_at hr4 8 rfl; have fz := froz_at hr4; clear hr4)
      refine bodyPost_ret (v := gotV 10 1 0 0) (by simp [results, Tryd.results18, go_sem, r0, r1, r2, r3, r4, r5, r6, r7, r8]) rfl ⟨by rw [hget.out]; rfl, ?_⟩
      exact st4.out.wrote (grownBy_sets9 _ _ _ _ _ _ _ _ _ _ _)
end Go.Proofs.YtliaadlanpfjbaaDoor.U8
