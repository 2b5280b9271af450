/- VietHolds: the walk. -/
import Derived.Test.YtfehmbicolllkaaVY13
import Derived.Test.YtfehmbicolllkaaVH13
import Derived.Test.YtfehmbicolllkaaCs
import Derived.Test.YtfehmbicolllkaaRegion
import Derived.Deep.Cut
import Derived.Deep.CutRange
namespace Go.Proofs.Ytfehmbicolllkaa.C13
open Go.ChangeShapes Go.WideShapes Go.ChangeAt Go.RowKit Go.Proofs.Ytfehmbicolllkaa.Mem Go.Proofs.Ytfehmbicolllkaa.Cb
set_option linter.unusedVariables false
set_option linter.unusedSimpArgs false

theorem zeroS (w : World) : (zeroValue 29).run Try.prog w = .ok (.agg (sC 0 0 0 0)) w := by kernel_rfl
theorem sC_one (md bi ac he : Int) : (sC md bi ac he).all (·.oneCell') = true := by kernel_rfl
/-- A byte of a slice, as a slice of one. -/
theorem bytes_at {w : World} {ao : Option Addr} {L : List UInt8} (h : Bytes w ao L) {i : Nat} (hi : i < L.length) : ∃ g o, ao = some ⟨g, o, none⟩ ∧ g < w.heap.size ∧ ∀ wx, w.grownBy wx none → Bytes wx (some ⟨g, o + i, none⟩) [L[i]] := by
  rcases h with ⟨_, h⟩ | ⟨a, rfl, hc⟩
  · subst h; simp at hi
  · obtain ⟨g, o, sp⟩ := a
    have hb := hc i hi
    have hsp : sp = none := by simpa [Addr.add] using World.cell?_spot (hc 0 (by omega))
    subst hsp
    have hlt := World.block_lt_of_cell? w _ hb
    rw [addr_add] at hb hlt
    refine ⟨g, o, rfl, hlt, fun wx hg => .inr ⟨_, rfl, fun j hj => ?_⟩⟩
    have : j = 0 := by simpa using hj
    subst this
    rw [addr_add, Nat.add_zero]
    exact byte_kept hb hlt hg
theorem vgV_inj {e n k a b h e' n' k' a' b' h' : Int} (x : vgV e n k a b h = vgV e' n' k' a' b' h') : e = e' ∧ n = n' ∧ k = k' ∧ a = a' ∧ b = b' ∧ h = h' := by simpa using x
theorem dr_zero : drT 0 0 0 0 = (0, false) := by decide +kernel
theorem dr_held {he : Int} (hf : fitR 0 0 0 he = true) (hz : ¬ he = 0) : drT 0 0 0 he = (he, true) := by rw [drT, if_pos ⟨hf, hz⟩]
theorem ho_ne {n : Nat} (h : hoR (n : Int) = true) : ¬ (n : Int) = 0 := fun e => by
  have : hoR 0 = false := by decide +kernel
  rw [e, this] at h
  cases h
theorem ho_fit {n : Nat} (h : hoR (n : Int) = true) : fitR 0 0 0 (n : Int) = true := by unfold fitR; rw [h]; simp
theorem co_ne {he : Int} {n u : Nat} (h : coR he (n : Int) = some u) : ¬ (u : Int) = he := by
  have ht : ∀ t ∈ trip, ¬ t.2.2 = t.1 := by decide +kernel
  unfold coR at h
  cases e : trip.find? (fun p => decide ((p.1 : Int) = he ∧ (p.2.1 : Int) = (n : Int))) with
  | none => rw [e] at h; cases h
  | some t =>
    rw [e] at h
    have h1 := List.find?_some e
    simp only [decide_eq_true_eq] at h1
    have h3 : t.2.2 = u := Option.some.inj h
    have := ht t (List.mem_of_find?_eq_some e)
    omega
set_option maxRecDepth 100000 in
set_option maxHeartbeats 1000000 in
theorem holds_walk {P : World → Prop} (C : Con P) (ao : Option Addr) (cap : Nat) (L : List UInt8) (len : Nat) (hlen : L.length = len) (w : World) (hw : P w) (hB : Bytes w ao L) (hLc : len ≤ cap) (hcm : cap ≤ 140737488351232) :
    Calls Try.prog 7 #[.slice ao len cap] w fun e w' => e = .returned (.bool true) ∧ w.grownBy w' none := by
  have a0 := Hid.mk' (fun w hw => works_any C w hw)
  have aG : Hid (∀ (he : Int) (ao : Option Addr) (cap : Nat) (c : UInt8) (w : World), Bytes w ao [c] → 1 ≤ cap → cap ≤ 9223372036854775807 → P w → Calls Try.prog 15 #[stV 0 0 0 he, .slice ao 1 cap] w fun e w' => e = .returned (geV 0 0 0 he [c]) ∧ w.grownBy w' none) := Hid.mk' (fun he ao cap c w hB h1 h2 hw => C.get 0 0 0 he ao cap [c] 1 rfl w hB h1 h2 hw)
  have aD := Hid.mk' (fun (he z : Int) (ok : Bool) (h : drT 0 0 0 he = (z, ok)) (w : World) (hw : P w) => C.drain 0 0 0 he w z ok (Hid.mk' h) hw)
  have K := Hid.mk' (fun (a b : World) (h : P a) (g : a.grownBy b none) => C.keep h g)
  have hq := Hid.mk' hw
  have hB0 := Hid.mk' hB
  have hl0 := Hid.mk' hlen
  clear hw C hB hlen
  go_enter Try.func7, Try.ntmps7
  go_upto_region 4 with (first
    | (go_at_call 21; refine (a0.out _ hq.out).mono ?_; rintro e w1 ⟨rfl, hg1, hp1⟩; have hq1 := Hid.mk' hp1)
    | (refine wpList_allocC _ rfl 29 rfl (sC 0 0 0 0) (zeroS _) ?_; intro w2 s2 hg2)
    | (refine wpList_storeC _ rfl 29 _ _ rfl _ (sC 0 0 0 0) (sC 0 0 0 0) infoS rfl (sC_one _ _ _ _) rfl rfl s2 ?_; intro w3 s3 hg3))
  have hG3 : Hid (w.grownBy w3 none) := Hid.mk' (gt hg1 (grownBy_new hg2 hg3 (fun k hk => by have h5 := Option.some.inj hk; omega)))
  have hSB : Hid (w.heap.size ≤ w1.heap.size) := Hid.mk' hg1.size
  have s30 := Hid.mk' s3
  clear hg1 hg2 hg3 s2 s3 hp1 hq1
  generalize w1.heap.size = SB at *
  go_wp2
  go_loopw [4, 5, 6] (fun t4 t5 t6 wx => ∃ (i told : Nat) (n he : Int), i ≤ 300 ∧ i ≤ len ∧ t6 = .int .i64 (i : Int) ∧ t4 = .int .i64 (told : Int) ∧ t5 = .int .i64 n ∧ told ≤ i ∧ n ≤ (i : Int) ∧ Hid (fitR 0 0 0 he = true) ∧ Hid (n = (told : Int) + (if he = 0 then 0 else 1)) ∧ Hid (CA wx SB 29 (sC 0 0 0 he)) ∧ Hid (w.grownBy wx none)) (fun _ _ t6 _ => 300 - (intOf t6).toNat)
  case atStart => exact ⟨0, 0, 0, 0, by omega, by omega, rfl, rfl, rfl, by omega, by omega, Hid.mk' (by decide +kernel), Hid.mk' (by simp), s30, hG3⟩
  case round =>
    obtain ⟨i, told, n, he, hi, hil, rfl, rfl, rfl, htn, hni, hf, hsum, hS, hG⟩ := hrel
    by_cases hlt : i < len
    · have hlt' : (i : Int) < (len : Int) := by omega
      by_cases hlt2 : i < 300
      · have hlt2' : (i : Int) < 300 := by omega
        have hiL : i < L.length := by rw [hl0.out]; exact hlt
        obtain ⟨g, o, rfl, hgl, hby⟩ := bytes_at hB0.out hiL
        have hby0 := Hid.mk' hby
        generalize L[i] = c at hby hby0
        obtain ⟨v, hv⟩ : ∃ v, vsR c.toNat = v := ⟨_, rfl⟩
        obtain ⟨ge, gk, ga', gb', gh, hgt⟩ := gtV_is he v
        have hge : geV 0 0 0 he [c] = vgV ge 1 gk ga' gb' gh := by
          unfold geV
          rw [if_pos hf.out]
          show gtV he (vsR c.toNat) = _
          rw [hv]
          exact hgt
        have e1 : (i : Int) + 1 ≤ (cap : Int) := by omega
        have e2 : (0 : Int) ≤ (i : Int) := by omega
        have e4 : (0 : Int) ≤ (i : Int) + 1 := by omega
        have e5 : ¬ cap = i := by omega
        have e3 : IntKind.i64.wrap ((i : Int) + 1) = (i : Int) + 1 := by rw [IntKind.wrap_i64]; omega
        have x0 := hS.out.cell 0 (v := .int .i64 0) rfl
        have x1 := hS.out.cell 1 (v := .int .i64 0) rfl
        have x2 := hS.out.cell 2 (v := .int .u32 0) rfl
        have x3 := hS.out.cell 3 (v := .int .i32 he) rfl
        have hv0 := Hid.mk' hv
        have hgt0 := Hid.mk' hgt
        have hge := Hid.mk' hge
        clear hv hgt hby
        have hcell : Hid (∀ wx, wr.grownBy wx none → (fun w' => w'.cell? ⟨SB, 0, none⟩ = some (.int .i64 0) ∧ w'.cell? ⟨SB, 1, none⟩ = some (.int .i64 0) ∧ w'.cell? ⟨SB, 2, none⟩ = some (.int .u32 0) ∧ w'.cell? ⟨SB, 3, none⟩ = some (.int .i32 he)) wx) := Hid.mk' (fun wx hg => ⟨(hS.out.kept0 hg).cell 0 rfl, (hS.out.kept0 hg).cell 1 rfl, (hS.out.kept0 hg).cell 2 rfl, (hS.out.kept0 hg).cell 3 rfl⟩)
        have hD : wr.grownBy wr.drew none := gd (grownBy_refl wr none)
        have hq0 := Hid.mk' (K.out _ _ hq.out hG.out)
        have K0 := K
        go_upto_region 8 with fail
        go_cut [7] from 17 to 100 (fun t7 wx => ∃ GB, t7 = .pointer (some ⟨GB, 0, none⟩) ∧ Hid (CA wx GB 34 (gC ge 1 gk ga' gb' gh)) ∧ Hid (wr.grownBy wx none))
        case first =>
          refine wp_region_held_drew (S := fun w' => w'.cell? ⟨SB, 0, none⟩ = some (.int .i64 0) ∧ w'.cell? ⟨SB, 1, none⟩ = some (.int .i64 0) ∧ w'.cell? ⟨SB, 2, none⟩ = some (.int .u32 0) ∧ w'.cell? ⟨SB, 3, none⟩ = some (.int .i32 he)) (by kernel_rfl) (hcell.out _ hD) (fun hHeld => ?_)
          refine wpAnyH_take (i := 0) (v := ?_) rfl (by kernel_rfl) (by kernel_rfl) (by kernel_rfl) (fun _ _ _ h => h) (Or.inl ⟨by rfl, ?_⟩) (by assumption) ?_; rotate_left
          · (intro w hSw; (try dsimp only at hSw); go_simp; try with_reducible rfl)
          try simp only [List.getElem_toArray, List.getElem_cons_zero, Act.put, List.setIfInBounds_toArray, List.set_cons_zero, List.set_cons_succ]
          refine wpAnyH_take (i := 1) (v := ?_) rfl (by kernel_rfl) (by kernel_rfl) (by kernel_rfl) (fun _ _ _ h => h) (Or.inl ⟨by rfl, ?_⟩) (by assumption) ?_; rotate_left
          · (intro w hSw; (try dsimp only at hSw); go_simp; try with_reducible rfl)
          try simp only [List.getElem_toArray, List.getElem_cons_zero, List.getElem_cons_succ, Act.put, List.setIfInBounds_toArray, List.set_cons_zero, List.set_cons_succ]
          refine wpAnyH_take (i := 2) (v := ?_) rfl (by kernel_rfl) (by kernel_rfl) (by kernel_rfl) (fun _ _ _ h => h) (Or.inl ⟨by rfl, ?_⟩) (by assumption) ?_; rotate_left
          · (intro w hSw; (try dsimp only at hSw); go_simp; try with_reducible rfl)
          try simp only [List.getElem_toArray, List.getElem_cons_zero, List.getElem_cons_succ, Act.put, List.setIfInBounds_toArray, List.set_cons_zero, List.set_cons_succ]
          refine wpAnyH_take (i := 3) (v := ?_) rfl (by kernel_rfl) (by kernel_rfl) (by kernel_rfl) (fun _ _ _ h => h) (Or.inl ⟨by rfl, ?_⟩) (by assumption) ?_; rotate_left
          · (intro w hSw; (try dsimp only at hSw); go_simp; try with_reducible rfl)
          try simp only [List.getElem_toArray, List.getElem_cons_zero, List.getElem_cons_succ, Act.put, List.setIfInBounds_toArray, List.set_cons_zero, List.set_cons_succ]
          refine wpAnyH_take (i := 4) (v := ?_) rfl (by kernel_rfl) (by kernel_rfl) (by kernel_rfl) (fun _ _ _ h => h) (Or.inl ⟨by rfl, ?_⟩) (by assumption) ?_; rotate_left
          · (intro w hSw; (try dsimp only at hSw); go_simp; try with_reducible rfl)
          try simp only [List.getElem_toArray, List.getElem_cons_zero, List.getElem_cons_succ, Act.put, List.setIfInBounds_toArray, List.set_cons_zero, List.set_cons_succ]
          refine wpAnyH_take (i := 5) (v := ?_) rfl (by kernel_rfl) (by kernel_rfl) (by kernel_rfl) (fun _ _ _ h => h) (Or.inl ⟨by rfl, ?_⟩) (by assumption) ?_; rotate_left
          · (intro w hSw; (try dsimp only at hSw); go_simp; try with_reducible rfl)
          try simp only [List.getElem_toArray, List.getElem_cons_zero, List.getElem_cons_succ, Act.put, List.setIfInBounds_toArray, List.set_cons_zero, List.set_cons_succ]
          refine wpAnyH_ready (rs := [6, 7]) (by kernel_rfl) (by simp) ?_
          refine AllReadyH.cons rfl (fun K hK => ?_) (AllReadyH.cons rfl (fun K hK => ?_) AllReadyH.nil)
          · go_simp
            refine (aG.out he (some ⟨g, o + i, none⟩) (cap - i) c _ (hby0.out _ (gt hG.out hD)) (by omega) (by omega) (K0.out _ _ hq0.out hD)).mono ?_
            rw [hge.out]
            rintro e wA ⟨rfl, hgc⟩
            try dsimp only
            have hrA : wr.grownBy wA none := gt hD hgc
            refine hK.out _ _ (hcell.out _ hrA) (fun hHeld => ?_)
            clear hK K
            try simp only [List.getElem_toArray, List.getElem_cons_zero, List.getElem_cons_succ, Act.put, List.setIfInBounds_toArray, List.set_cons_zero, List.set_cons_succ]
            refine wpAnyH_ready (rs := [7]) (by kernel_rfl) (by simp) ?_
            refine AllReadyH.cons rfl (fun K hK => ?_) AllReadyH.nil
            refine step_allocC (by rfl) 34 (by rfl) (gC 0 0 0 0 0 0) (zeroG _) ?_
            intro wB gB hgB
            have hrB : wr.grownBy wB none := gt hrA hgB
            refine hK.out _ _ (hcell.out _ hrB) (fun hHeld => ?_)
            clear hK K
            try simp only [List.getElem_toArray, List.getElem_cons_zero, List.getElem_cons_succ, Act.put, List.setIfInBounds_toArray, List.set_cons_zero, List.set_cons_succ]
            refine wpAnyH_ready (rs := [8]) (by kernel_rfl) (by simp) ?_
            refine AllReadyH.cons rfl (fun K hK => ?_) AllReadyH.nil
            refine step_storeC (by rfl) 34 _ _ (by rfl) _ (gC 0 0 0 0 0 0) (gC ge 1 gk ga' gb' gh) infoG rfl (gC_one _ _ _ _ _ _) (by simp [Act.eval]) (by simp [Act.eval]) gB ?_
            intro wF gF hgF
            have hrF : wr.grownBy wF none := grownBy_new hrB hgF (fun k hk => by have h5 := Option.some.inj hk; have h6 := hrA.size; omega)
            refine hK.out _ _ (hcell.out _ hrF) (fun hHeld => ?_)
            clear hK K
            try simp only [List.getElem_toArray, List.getElem_cons_zero, List.getElem_cons_succ, Act.put, List.setIfInBounds_toArray, List.set_cons_zero, List.set_cons_succ]
            refine wpAnyH_done (by kernel_rfl) ?_ _
            go_wp2_with fail
            go_meet
            exact ⟨_, rfl, Hid.mk' gF, Hid.mk' hrF⟩
          · refine step_allocC (by rfl) 34 (by rfl) (gC 0 0 0 0 0 0) (zeroG _) ?_
            intro wB gB hgB
            have hrB : wr.grownBy wB none := gt hD hgB
            refine hK.out _ _ (hcell.out _ hrB) (fun hHeld => ?_)
            clear hK K
            try simp only [List.getElem_toArray, List.getElem_cons_zero, List.getElem_cons_succ, Act.put, List.setIfInBounds_toArray, List.set_cons_zero, List.set_cons_succ]
            refine wpAnyH_ready (rs := [6]) (by kernel_rfl) (by simp) ?_
            refine AllReadyH.cons rfl (fun K hK => ?_) AllReadyH.nil
            go_simp
            refine (aG.out he (some ⟨g, o + i, none⟩) (cap - i) c _ (hby0.out _ (gt hG.out hrB)) (by omega) (by omega) (K0.out _ _ hq0.out hrB)).mono ?_
            rw [hge.out]
            rintro e wA ⟨rfl, hgc⟩
            try dsimp only
            have hrA : wr.grownBy wA none := gt hrB hgc
            refine hK.out _ _ (hcell.out _ hrA) (fun hHeld => ?_)
            clear hK K
            try simp only [List.getElem_toArray, List.getElem_cons_zero, List.getElem_cons_succ, Act.put, List.setIfInBounds_toArray, List.set_cons_zero, List.set_cons_succ]
            refine wpAnyH_ready (rs := [8]) (by kernel_rfl) (by simp) ?_
            refine AllReadyH.cons rfl (fun K hK => ?_) AllReadyH.nil
            refine step_storeC (by rfl) 34 _ _ (by rfl) _ (gC 0 0 0 0 0 0) (gC ge 1 gk ga' gb' gh) infoG rfl (gC_one _ _ _ _ _ _) (by simp [Act.eval]) (by simp [Act.eval]) (gB.kept0 hgc) ?_
            intro wF gF hgF
            have hrF : wr.grownBy wF none := grownBy_new hrA hgF (fun k hk => by have h5 := Option.some.inj hk; simp at h5; omega)
            refine hK.out _ _ (hcell.out _ hrF) (fun hHeld => ?_)
            clear hK K
            try simp only [List.getElem_toArray, List.getElem_cons_zero, List.getElem_cons_succ, Act.put, List.setIfInBounds_toArray, List.set_cons_zero, List.set_cons_succ]
            refine wpAnyH_done (by kernel_rfl) ?_ _
            go_wp2_with fail
            go_meet
            exact ⟨_, rfl, Hid.mk' gF, Hid.mk' hrF⟩
        case rest =>
          obtain ⟨GB, rfl, hGB, hgr⟩ := hcut
          have G0 := hGB.out
          have S0 := hS.out.kept0 hgr.out
          have hGc : Hid (w.grownBy wc none) := Hid.mk' (gt hG.out hgr.out)
          have hqc := Hid.mk' (K.out _ _ hq.out hGc.out)
          have hgt := hgt0.out
          have hsm := hsum.out
          clear hGB hgr hgt0 hge hcell hD hq0 K0 hS hG hsum hv0 hby0 x0 x1 x2 x3
          unfold gtV at hgt
          by_cases h9 : v = 65533
          · rw [if_pos h9] at hgt
            obtain ⟨rfl, _, rfl, rfl, rfl, rfl⟩ := vgV_inj hgt
            clear hgt
            have hee : (he == he) = true := by simp
            have hsum := Hid.mk' hsm
            clear hsm
            have c0 := G0.cell 0 (v := .int .i64 10) rfl
            have c1 := G0.cell 1 (v := .int .i64 1) rfl
            have c2 := G0.cell 2 (v := .int .i64 0) rfl
            have c3 := G0.cell 3 (v := .int .i32 0) rfl
            have c4 := G0.cell 4 (v := .int .i32 0) rfl
            have c5 := G0.cell 5 (v := .int .i64 0) rfl
            have c6 := G0.cell 6 (v := .int .i64 0) rfl
            have c7 := G0.cell 7 (v := .int .u32 0) rfl
            have c8 := G0.cell 8 (v := .int .i32 he) rfl
            have x0 := S0.cell 0 (v := .int .i64 0) rfl
            have x1 := S0.cell 1 (v := .int .i64 0) rfl
            have x2 := S0.cell 2 (v := .int .u32 0) rfl
            have x3 := S0.cell 3 (v := .int .i32 he) rfl
            go_wp2
            go_roundw
            case rel => exact ⟨i + 1, told, _, he, by omega, by omega, by go_num, by go_num, rfl, by omega, by omega, hf, hsum, Hid.mk' S0, hGc⟩
            case measure => simp [intOf]; omega
          · rw [if_neg h9] at hgt
            by_cases hz : he = 0
            · rw [if_pos hz] at hgt hsm
              subst hz
              obtain rfl : n = (told : Int) := by omega
              clear hsm
              by_cases hh : hoR (v : Int) = true
              · rw [if_pos hh] at hgt
                obtain ⟨rfl, _, rfl, rfl, rfl, rfl⟩ := vgV_inj hgt
                clear hgt h9
                have c0 := G0.cell 0 (v := .int .i64 0) rfl
                have c1 := G0.cell 1 (v := .int .i64 1) rfl
                have c2 := G0.cell 2 (v := .int .i64 0) rfl
                have c3 := G0.cell 3 (v := .int .i32 0) rfl
                have c4 := G0.cell 4 (v := .int .i32 0) rfl
                have c5 := G0.cell 5 (v := .int .i64 0) rfl
                have c6 := G0.cell 6 (v := .int .i64 0) rfl
                have c7 := G0.cell 7 (v := .int .u32 0) rfl
                have c8 := G0.cell 8 (v := .int .i32 (v : Int)) rfl
                have x0 := S0.cell 0 (v := .int .i64 0) rfl
                have x1 := S0.cell 1 (v := .int .i64 0) rfl
                have x2 := S0.cell 2 (v := .int .u32 0) rfl
                have x3 := S0.cell 3 (v := .int .i32 0) rfl
                go_upto_region 15 with (go_at_call 13; refine (aD.out 0 0 false dr_zero _ hqc.out).mono ?_; rintro e w4 ⟨rfl, hg4⟩)
                have G1 := G0.kept0 hg4
                have S1 := S0.kept0 hg4
                have hG4 : Hid (w.grownBy w4 none) := Hid.mk' (gt hGc.out hg4)
                have hq4 := Hid.mk' (K.out _ _ hqc.out hg4)
                clear c0 c1 c2 c3 c4 c5 c6 c7 c8 x0 x1 x2 x3
                clear G0 S0 hg4
                have c0 := G1.cell 0 (v := .int .i64 0) rfl
                have c1 := G1.cell 1 (v := .int .i64 1) rfl
                have c2 := G1.cell 2 (v := .int .i64 0) rfl
                have c3 := G1.cell 3 (v := .int .i32 0) rfl
                have c4 := G1.cell 4 (v := .int .i32 0) rfl
                have c5 := G1.cell 5 (v := .int .i64 0) rfl
                have c6 := G1.cell 6 (v := .int .i64 0) rfl
                have c7 := G1.cell 7 (v := .int .u32 0) rfl
                have c8 := G1.cell 8 (v := .int .i32 (v : Int)) rfl
                have x0 := S1.cell 0 (v := .int .i64 0) rfl
                have x1 := S1.cell 1 (v := .int .i64 0) rfl
                have x2 := S1.cell 2 (v := .int .u32 0) rfl
                have x3 := S1.cell 3 (v := .int .i32 0) rfl
                go_upto_region 16 with (go_at_call 13; refine (aD.out (v : Int) (v : Int) true (dr_held (ho_fit hh) (ho_ne hh)) _ hq4.out).mono ?_; rintro e w5 ⟨rfl, hg5⟩)
                have G2 := G1.kept0 hg5
                have S2 := S1.kept0 hg5
                have hG5 : Hid (w.grownBy w5 none) := Hid.mk' (gt hG4.out hg5)
                clear c0 c1 c2 c3 c4 c5 c6 c7 c8 x0 x1 x2 x3
                clear G1 S1 hg5
                have c0 := G2.cell 0 (v := .int .i64 0) rfl
                have c1 := G2.cell 1 (v := .int .i64 1) rfl
                have c2 := G2.cell 2 (v := .int .i64 0) rfl
                have c3 := G2.cell 3 (v := .int .i32 0) rfl
                have c4 := G2.cell 4 (v := .int .i32 0) rfl
                have c5 := G2.cell 5 (v := .int .i64 0) rfl
                have c6 := G2.cell 6 (v := .int .i64 0) rfl
                have c7 := G2.cell 7 (v := .int .u32 0) rfl
                have c8 := G2.cell 8 (v := .int .i32 (v : Int)) rfl
                have x0 := S2.cell 0 (v := .int .i64 0) rfl
                have x1 := S2.cell 1 (v := .int .i64 0) rfl
                have x2 := S2.cell 2 (v := .int .u32 0) rfl
                have x3 := S2.cell 3 (v := .int .i32 0) rfl
                go_wp2_with (refine wpList_storeC _ rfl 29 _ _ rfl SB (sC 0 0 0 0) (sC 0 0 0 (v : Int)) infoS rfl (sC_one _ _ _ _) rfl rfl S2 ?_; intro w6 S6 hg6)
                go_roundw
                case rel => exact ⟨i + 1, told, _, (v : Int), by omega, by omega, by go_num, by go_num, rfl, by omega, by omega, Hid.mk' (ho_fit hh), Hid.mk' (by rw [if_neg (ho_ne hh)]), Hid.mk' S6, Hid.mk' (grownBy_new hG5.out hg6 (fun k hk => by have h5 := Option.some.inj hk; have h6 := hSB.out; omega))⟩
                case measure => simp [intOf]; omega
              · rw [if_neg hh] at hgt
                obtain ⟨rfl, _, rfl, rfl, rfl, rfl⟩ := vgV_inj hgt
                clear hgt h9
                have c0 := G0.cell 0 (v := .int .i64 0) rfl
                have c1 := G0.cell 1 (v := .int .i64 1) rfl
                have c2 := G0.cell 2 (v := .int .i64 1) rfl
                have c3 := G0.cell 3 (v := .int .i32 (v : Int)) rfl
                have c4 := G0.cell 4 (v := .int .i32 0) rfl
                have c5 := G0.cell 5 (v := .int .i64 0) rfl
                have c6 := G0.cell 6 (v := .int .i64 0) rfl
                have c7 := G0.cell 7 (v := .int .u32 0) rfl
                have c8 := G0.cell 8 (v := .int .i32 0) rfl
                have x0 := S0.cell 0 (v := .int .i64 0) rfl
                have x1 := S0.cell 1 (v := .int .i64 0) rfl
                have x2 := S0.cell 2 (v := .int .u32 0) rfl
                have x3 := S0.cell 3 (v := .int .i32 0) rfl
                go_upto_region 15 with (go_at_call 13; refine (aD.out 0 0 false dr_zero _ hqc.out).mono ?_; rintro e w4 ⟨rfl, hg4⟩)
                have G1 := G0.kept0 hg4
                have S1 := S0.kept0 hg4
                have hG4 : Hid (w.grownBy w4 none) := Hid.mk' (gt hGc.out hg4)
                have hq4 := Hid.mk' (K.out _ _ hqc.out hg4)
                clear c0 c1 c2 c3 c4 c5 c6 c7 c8 x0 x1 x2 x3
                clear G0 S0 hg4
                have c0 := G1.cell 0 (v := .int .i64 0) rfl
                have c1 := G1.cell 1 (v := .int .i64 1) rfl
                have c2 := G1.cell 2 (v := .int .i64 1) rfl
                have c3 := G1.cell 3 (v := .int .i32 (v : Int)) rfl
                have c4 := G1.cell 4 (v := .int .i32 0) rfl
                have c5 := G1.cell 5 (v := .int .i64 0) rfl
                have c6 := G1.cell 6 (v := .int .i64 0) rfl
                have c7 := G1.cell 7 (v := .int .u32 0) rfl
                have c8 := G1.cell 8 (v := .int .i32 0) rfl
                have x0 := S1.cell 0 (v := .int .i64 0) rfl
                have x1 := S1.cell 1 (v := .int .i64 0) rfl
                have x2 := S1.cell 2 (v := .int .u32 0) rfl
                have x3 := S1.cell 3 (v := .int .i32 0) rfl
                go_upto_region 16 with (go_at_call 13; refine (aD.out 0 0 false dr_zero _ hq4.out).mono ?_; rintro e w5 ⟨rfl, hg5⟩)
                have G2 := G1.kept0 hg5
                have S2 := S1.kept0 hg5
                have hG5 : Hid (w.grownBy w5 none) := Hid.mk' (gt hG4.out hg5)
                clear c0 c1 c2 c3 c4 c5 c6 c7 c8 x0 x1 x2 x3
                clear G1 S1 hg5
                have c0 := G2.cell 0 (v := .int .i64 0) rfl
                have c1 := G2.cell 1 (v := .int .i64 1) rfl
                have c2 := G2.cell 2 (v := .int .i64 1) rfl
                have c3 := G2.cell 3 (v := .int .i32 (v : Int)) rfl
                have c4 := G2.cell 4 (v := .int .i32 0) rfl
                have c5 := G2.cell 5 (v := .int .i64 0) rfl
                have c6 := G2.cell 6 (v := .int .i64 0) rfl
                have c7 := G2.cell 7 (v := .int .u32 0) rfl
                have c8 := G2.cell 8 (v := .int .i32 0) rfl
                have x0 := S2.cell 0 (v := .int .i64 0) rfl
                have x1 := S2.cell 1 (v := .int .i64 0) rfl
                have x2 := S2.cell 2 (v := .int .u32 0) rfl
                have x3 := S2.cell 3 (v := .int .i32 0) rfl
                go_wp2_with (refine wpList_storeC _ rfl 29 _ _ rfl SB (sC 0 0 0 0) (sC 0 0 0 0) infoS rfl (sC_one _ _ _ _) rfl rfl S2 ?_; intro w6 S6 hg6)
                go_roundw
                case rel => exact ⟨i + 1, told + 1, _, 0, by omega, by omega, by go_num, by go_num, rfl, by omega, by omega, Hid.mk' (by decide +kernel), Hid.mk' (by rw [if_pos rfl]; omega), Hid.mk' S6, Hid.mk' (grownBy_new hG5.out hg6 (fun k hk => by have h5 := Option.some.inj hk; have h6 := hSB.out; omega))⟩
                case measure => simp [intOf]; omega
            · rw [if_neg hz] at hgt hsm
              obtain rfl : n = (told : Int) + 1 := by omega
              clear hsm
              cases hR : coR he (v : Int) with
              | some u =>
                rw [hR] at hgt
                obtain ⟨rfl, _, rfl, rfl, rfl, rfl⟩ := vgV_inj hgt
                have hne := co_ne hR
                have hne' : ((u : Int) != he) = true := by simpa using hne
                have hne2 : ((u : Int) == he) = false := by simpa using hne
                clear hgt h9 hR hne
                have c0 := G0.cell 0 (v := .int .i64 0) rfl
                have c1 := G0.cell 1 (v := .int .i64 1) rfl
                have c2 := G0.cell 2 (v := .int .i64 1) rfl
                have c3 := G0.cell 3 (v := .int .i32 (u : Int)) rfl
                have c4 := G0.cell 4 (v := .int .i32 0) rfl
                have c5 := G0.cell 5 (v := .int .i64 0) rfl
                have c6 := G0.cell 6 (v := .int .i64 0) rfl
                have c7 := G0.cell 7 (v := .int .u32 0) rfl
                have c8 := G0.cell 8 (v := .int .i32 0) rfl
                have x0 := S0.cell 0 (v := .int .i64 0) rfl
                have x1 := S0.cell 1 (v := .int .i64 0) rfl
                have x2 := S0.cell 2 (v := .int .u32 0) rfl
                have x3 := S0.cell 3 (v := .int .i32 he) rfl
                go_upto_region 15 with (go_at_call 13; refine (aD.out he he true (dr_held hf.out hz) _ hqc.out).mono ?_; rintro e w4 ⟨rfl, hg4⟩)
                have G1 := G0.kept0 hg4
                have S1 := S0.kept0 hg4
                have hG4 : Hid (w.grownBy w4 none) := Hid.mk' (gt hGc.out hg4)
                have hq4 := Hid.mk' (K.out _ _ hqc.out hg4)
                clear c0 c1 c2 c3 c4 c5 c6 c7 c8 x0 x1 x2 x3
                clear G0 S0 hg4
                have c0 := G1.cell 0 (v := .int .i64 0) rfl
                have c1 := G1.cell 1 (v := .int .i64 1) rfl
                have c2 := G1.cell 2 (v := .int .i64 1) rfl
                have c3 := G1.cell 3 (v := .int .i32 (u : Int)) rfl
                have c4 := G1.cell 4 (v := .int .i32 0) rfl
                have c5 := G1.cell 5 (v := .int .i64 0) rfl
                have c6 := G1.cell 6 (v := .int .i64 0) rfl
                have c7 := G1.cell 7 (v := .int .u32 0) rfl
                have c8 := G1.cell 8 (v := .int .i32 0) rfl
                have x0 := S1.cell 0 (v := .int .i64 0) rfl
                have x1 := S1.cell 1 (v := .int .i64 0) rfl
                have x2 := S1.cell 2 (v := .int .u32 0) rfl
                have x3 := S1.cell 3 (v := .int .i32 he) rfl
                go_upto_region 16 with (go_at_call 13; refine (aD.out 0 0 false dr_zero _ hq4.out).mono ?_; rintro e w5 ⟨rfl, hg5⟩)
                have G2 := G1.kept0 hg5
                have S2 := S1.kept0 hg5
                have hG5 : Hid (w.grownBy w5 none) := Hid.mk' (gt hG4.out hg5)
                clear c0 c1 c2 c3 c4 c5 c6 c7 c8 x0 x1 x2 x3
                clear G1 S1 hg5
                have c0 := G2.cell 0 (v := .int .i64 0) rfl
                have c1 := G2.cell 1 (v := .int .i64 1) rfl
                have c2 := G2.cell 2 (v := .int .i64 1) rfl
                have c3 := G2.cell 3 (v := .int .i32 (u : Int)) rfl
                have c4 := G2.cell 4 (v := .int .i32 0) rfl
                have c5 := G2.cell 5 (v := .int .i64 0) rfl
                have c6 := G2.cell 6 (v := .int .i64 0) rfl
                have c7 := G2.cell 7 (v := .int .u32 0) rfl
                have c8 := G2.cell 8 (v := .int .i32 0) rfl
                have x0 := S2.cell 0 (v := .int .i64 0) rfl
                have x1 := S2.cell 1 (v := .int .i64 0) rfl
                have x2 := S2.cell 2 (v := .int .u32 0) rfl
                have x3 := S2.cell 3 (v := .int .i32 he) rfl
                go_wp2_with (refine wpList_storeC _ rfl 29 _ _ rfl SB (sC 0 0 0 he) (sC 0 0 0 0) infoS rfl (sC_one _ _ _ _) rfl rfl S2 ?_; intro w6 S6 hg6)
                go_roundw
                case rel => exact ⟨i + 1, told + 1, _, 0, by omega, by omega, by go_num, by go_num, rfl, by omega, by omega, Hid.mk' (by decide +kernel), Hid.mk' (by rw [if_pos rfl]; omega), Hid.mk' S6, Hid.mk' (grownBy_new hG5.out hg6 (fun k hk => by have h5 := Option.some.inj hk; have h6 := hSB.out; omega))⟩
                case measure => simp [intOf]; omega
              | none =>
                rw [hR] at hgt
                simp only at hgt
                clear hR
                by_cases hh : hoR (v : Int) = true
                · rw [if_pos hh] at hgt
                  obtain ⟨rfl, _, rfl, rfl, rfl, rfl⟩ := vgV_inj hgt
                  clear hgt h9
                  have c0 := G0.cell 0 (v := .int .i64 0) rfl
                  have c1 := G0.cell 1 (v := .int .i64 1) rfl
                  have c2 := G0.cell 2 (v := .int .i64 1) rfl
                  have c3 := G0.cell 3 (v := .int .i32 he) rfl
                  have c4 := G0.cell 4 (v := .int .i32 0) rfl
                  have c5 := G0.cell 5 (v := .int .i64 0) rfl
                  have c6 := G0.cell 6 (v := .int .i64 0) rfl
                  have c7 := G0.cell 7 (v := .int .u32 0) rfl
                  have c8 := G0.cell 8 (v := .int .i32 (v : Int)) rfl
                  have x0 := S0.cell 0 (v := .int .i64 0) rfl
                  have x1 := S0.cell 1 (v := .int .i64 0) rfl
                  have x2 := S0.cell 2 (v := .int .u32 0) rfl
                  have x3 := S0.cell 3 (v := .int .i32 he) rfl
                  go_upto_region 15 with (go_at_call 13; refine (aD.out he he true (dr_held hf.out hz) _ hqc.out).mono ?_; rintro e w4 ⟨rfl, hg4⟩)
                  have G1 := G0.kept0 hg4
                  have S1 := S0.kept0 hg4
                  have hG4 : Hid (w.grownBy w4 none) := Hid.mk' (gt hGc.out hg4)
                  have hq4 := Hid.mk' (K.out _ _ hqc.out hg4)
                  clear c0 c1 c2 c3 c4 c5 c6 c7 c8 x0 x1 x2 x3
                  clear G0 S0 hg4
                  have c0 := G1.cell 0 (v := .int .i64 0) rfl
                  have c1 := G1.cell 1 (v := .int .i64 1) rfl
                  have c2 := G1.cell 2 (v := .int .i64 1) rfl
                  have c3 := G1.cell 3 (v := .int .i32 he) rfl
                  have c4 := G1.cell 4 (v := .int .i32 0) rfl
                  have c5 := G1.cell 5 (v := .int .i64 0) rfl
                  have c6 := G1.cell 6 (v := .int .i64 0) rfl
                  have c7 := G1.cell 7 (v := .int .u32 0) rfl
                  have c8 := G1.cell 8 (v := .int .i32 (v : Int)) rfl
                  have x0 := S1.cell 0 (v := .int .i64 0) rfl
                  have x1 := S1.cell 1 (v := .int .i64 0) rfl
                  have x2 := S1.cell 2 (v := .int .u32 0) rfl
                  have x3 := S1.cell 3 (v := .int .i32 he) rfl
                  go_upto_region 16 with (go_at_call 13; refine (aD.out (v : Int) (v : Int) true (dr_held (ho_fit hh) (ho_ne hh)) _ hq4.out).mono ?_; rintro e w5 ⟨rfl, hg5⟩)
                  have G2 := G1.kept0 hg5
                  have S2 := S1.kept0 hg5
                  have hG5 : Hid (w.grownBy w5 none) := Hid.mk' (gt hG4.out hg5)
                  clear c0 c1 c2 c3 c4 c5 c6 c7 c8 x0 x1 x2 x3
                  clear G1 S1 hg5
                  have c0 := G2.cell 0 (v := .int .i64 0) rfl
                  have c1 := G2.cell 1 (v := .int .i64 1) rfl
                  have c2 := G2.cell 2 (v := .int .i64 1) rfl
                  have c3 := G2.cell 3 (v := .int .i32 he) rfl
                  have c4 := G2.cell 4 (v := .int .i32 0) rfl
                  have c5 := G2.cell 5 (v := .int .i64 0) rfl
                  have c6 := G2.cell 6 (v := .int .i64 0) rfl
                  have c7 := G2.cell 7 (v := .int .u32 0) rfl
                  have c8 := G2.cell 8 (v := .int .i32 (v : Int)) rfl
                  have x0 := S2.cell 0 (v := .int .i64 0) rfl
                  have x1 := S2.cell 1 (v := .int .i64 0) rfl
                  have x2 := S2.cell 2 (v := .int .u32 0) rfl
                  have x3 := S2.cell 3 (v := .int .i32 he) rfl
                  go_wp2_with (refine wpList_storeC _ rfl 29 _ _ rfl SB (sC 0 0 0 he) (sC 0 0 0 (v : Int)) infoS rfl (sC_one _ _ _ _) rfl rfl S2 ?_; intro w6 S6 hg6)
                  go_roundw
                  case rel => exact ⟨i + 1, told + 1, _, (v : Int), by omega, by omega, by go_num, by go_num, rfl, by omega, by omega, Hid.mk' (ho_fit hh), Hid.mk' (by rw [if_neg (ho_ne hh)]; omega), Hid.mk' S6, Hid.mk' (grownBy_new hG5.out hg6 (fun k hk => by have h5 := Option.some.inj hk; have h6 := hSB.out; omega))⟩
                  case measure => simp [intOf]; omega
                · rw [if_neg hh] at hgt
                  obtain ⟨rfl, _, rfl, rfl, rfl, rfl⟩ := vgV_inj hgt
                  clear hgt h9
                  have c0 := G0.cell 0 (v := .int .i64 0) rfl
                  have c1 := G0.cell 1 (v := .int .i64 1) rfl
                  have c2 := G0.cell 2 (v := .int .i64 2) rfl
                  have c3 := G0.cell 3 (v := .int .i32 he) rfl
                  have c4 := G0.cell 4 (v := .int .i32 (v : Int)) rfl
                  have c5 := G0.cell 5 (v := .int .i64 0) rfl
                  have c6 := G0.cell 6 (v := .int .i64 0) rfl
                  have c7 := G0.cell 7 (v := .int .u32 0) rfl
                  have c8 := G0.cell 8 (v := .int .i32 0) rfl
                  have x0 := S0.cell 0 (v := .int .i64 0) rfl
                  have x1 := S0.cell 1 (v := .int .i64 0) rfl
                  have x2 := S0.cell 2 (v := .int .u32 0) rfl
                  have x3 := S0.cell 3 (v := .int .i32 he) rfl
                  go_upto_region 15 with (go_at_call 13; refine (aD.out he he true (dr_held hf.out hz) _ hqc.out).mono ?_; rintro e w4 ⟨rfl, hg4⟩)
                  have G1 := G0.kept0 hg4
                  have S1 := S0.kept0 hg4
                  have hG4 : Hid (w.grownBy w4 none) := Hid.mk' (gt hGc.out hg4)
                  have hq4 := Hid.mk' (K.out _ _ hqc.out hg4)
                  clear c0 c1 c2 c3 c4 c5 c6 c7 c8 x0 x1 x2 x3
                  clear G0 S0 hg4
                  have c0 := G1.cell 0 (v := .int .i64 0) rfl
                  have c1 := G1.cell 1 (v := .int .i64 1) rfl
                  have c2 := G1.cell 2 (v := .int .i64 2) rfl
                  have c3 := G1.cell 3 (v := .int .i32 he) rfl
                  have c4 := G1.cell 4 (v := .int .i32 (v : Int)) rfl
                  have c5 := G1.cell 5 (v := .int .i64 0) rfl
                  have c6 := G1.cell 6 (v := .int .i64 0) rfl
                  have c7 := G1.cell 7 (v := .int .u32 0) rfl
                  have c8 := G1.cell 8 (v := .int .i32 0) rfl
                  have x0 := S1.cell 0 (v := .int .i64 0) rfl
                  have x1 := S1.cell 1 (v := .int .i64 0) rfl
                  have x2 := S1.cell 2 (v := .int .u32 0) rfl
                  have x3 := S1.cell 3 (v := .int .i32 he) rfl
                  go_upto_region 16 with (go_at_call 13; refine (aD.out 0 0 false dr_zero _ hq4.out).mono ?_; rintro e w5 ⟨rfl, hg5⟩)
                  have G2 := G1.kept0 hg5
                  have S2 := S1.kept0 hg5
                  have hG5 : Hid (w.grownBy w5 none) := Hid.mk' (gt hG4.out hg5)
                  clear c0 c1 c2 c3 c4 c5 c6 c7 c8 x0 x1 x2 x3
                  clear G1 S1 hg5
                  have c0 := G2.cell 0 (v := .int .i64 0) rfl
                  have c1 := G2.cell 1 (v := .int .i64 1) rfl
                  have c2 := G2.cell 2 (v := .int .i64 2) rfl
                  have c3 := G2.cell 3 (v := .int .i32 he) rfl
                  have c4 := G2.cell 4 (v := .int .i32 (v : Int)) rfl
                  have c5 := G2.cell 5 (v := .int .i64 0) rfl
                  have c6 := G2.cell 6 (v := .int .i64 0) rfl
                  have c7 := G2.cell 7 (v := .int .u32 0) rfl
                  have c8 := G2.cell 8 (v := .int .i32 0) rfl
                  have x0 := S2.cell 0 (v := .int .i64 0) rfl
                  have x1 := S2.cell 1 (v := .int .i64 0) rfl
                  have x2 := S2.cell 2 (v := .int .u32 0) rfl
                  have x3 := S2.cell 3 (v := .int .i32 he) rfl
                  go_wp2_with (refine wpList_storeC _ rfl 29 _ _ rfl SB (sC 0 0 0 he) (sC 0 0 0 0) infoS rfl (sC_one _ _ _ _) rfl rfl S2 ?_; intro w6 S6 hg6)
                  go_roundw
                  case rel => exact ⟨i + 1, told + 2, _, 0, by omega, by omega, by go_num, by go_num, rfl, by omega, by omega, Hid.mk' (by decide +kernel), Hid.mk' (by rw [if_pos rfl]; omega), Hid.mk' S6, Hid.mk' (grownBy_new hG5.out hg6 (fun k hk => by have h5 := Option.some.inj hk; have h6 := hSB.out; omega))⟩
                  case measure => simp [intOf]; omega
      · obtain rfl : i = 300 := by omega
        go_wp2
        go_ret
        exact ⟨rfl, hG.out⟩
    · obtain rfl : i = len := by omega
      go_wp2
      go_ret
      exact ⟨rfl, hG.out⟩
end Go.Proofs.Ytfehmbicolllkaa.C13
