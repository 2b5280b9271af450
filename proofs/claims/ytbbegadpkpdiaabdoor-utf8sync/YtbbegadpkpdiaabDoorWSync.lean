/- Utf8Sync: the walk. -/
import Derived.Test.YtbbegadpkpdiaabDoorScalars
import Derived.Test.YtbbegadpkpdiaabDoorConv
namespace Go.Proofs.YtbbegadpkpdiaabDoor.U8
open Go.ChangeShapes Go.WideShapes Go.ChangeAt Go.RowKit Go.Proofs.YtbbegadpkpdiaabDoor.Mem Go.Proofs.YtbbegadpkpdiaabDoor.Ucs
set_option linter.unusedVariables false

theorem unit_at {u i : Nat} (hi : i < (unit u).length) (h0 : 0 < i) : isTl ((unit u)[i]) := by
  have e : (unit u)[i]? = (lead u :: tls (uk u) u)[i]? := by rw [unit_eq]
  obtain ⟨k, rfl⟩ : ∃ k, i = k + 1 := ⟨i - 1, by omega⟩
  rw [List.getElem?_eq_getElem hi, List.getElem?_cons_succ] at e
  exact tls_isTl _ _ _ (List.mem_of_getElem? e.symm)
theorem unit_zero (u : Nat) (h : 0 < (unit u).length) : (unit u)[0] = lead u := by
  have e : (unit u)[0]? = (lead u :: tls (uk u) u)[0]? := by rw [unit_eq]
  rw [List.getElem?_eq_getElem h] at e
  simpa using e
theorem sync_math {a b c i : Nat} (ha : scB (a : Int) = true) (hb : scB (b : Int) = true) (hc : scB (c : Int) = true) (hi : i + (unit c).length ≤ (unit a ++ unit b).length)
    (h : ((unit a ++ unit b).drop i).take (unit c).length = unit c) : i = 0 ∨ i = (unit a ++ unit b).length - (unit c).length := by
  have hcl := unit_length c
  have hbl := unit_length b
  have hal := unit_length a
  have hlt : i < (unit a ++ unit b).length := by omega
  have nc := (ix_lead (sc_le hc)).2.2
  have hget : (unit a ++ unit b)[i] = lead c := by
    have e : (((unit a ++ unit b).drop i).take (unit c).length)[0]? = (unit c)[0]? := by rw [h]
    rw [List.getElem?_take, if_pos (by omega), List.getElem?_drop, Nat.add_zero, List.getElem?_eq_getElem hlt, List.getElem?_eq_getElem (by omega), unit_zero] at e
    exact Option.some.inj e
  by_cases h1 : i < (unit a).length
  · left
    rw [List.getElem_append_left h1] at hget
    by_cases h0 : i = 0
    · exact h0
    · exact absurd (hget ▸ unit_at h1 (by omega)) nc
  · right
    have hg2 : (unit b)[i - (unit a).length]'(by simp at hlt; omega) = lead c := by
      rw [List.getElem_append_right (by omega)] at hget
      exact hget
    by_cases h0 : i - (unit a).length = 0
    · have hi' : i = (unit a).length := by omega
      have hz : lead b = lead c := by
        rw [← unit_zero b (by omega), ← hg2]
        congr 1
        omega
      have hu : uk b = uk c := by
        rw [← (ix_lead (sc_le hb)).1, ← (ix_lead (sc_le hc)).1, hz]
      simp
      omega
    · have := unit_at (u := b) (i := i - (unit a).length) (by simp at hlt; omega) (by omega)
      rw [hg2] at this
      exact absurd this nc

theorem runes_at {w : World} {ro : Option Addr} {x y z : Int} (h : MemR.Bytes w ro [x, y, z]) : ∃ b o, ro = some ⟨b, o, none⟩ ∧ ∀ j (hj : j < [x, y, z].length), w.cell? ⟨b, o + j, none⟩ = some (.int .i32 ([x, y, z][j])) := by
  rcases h with ⟨_, h⟩ | ⟨a, rfl, hc⟩
  · cases h
  · obtain ⟨b, o, s⟩ := a
    have h0 := hc 0 (by simp)
    have hs : s = none := by simpa [Addr.add] using World.cell?_spot h0
    subst hs
    exact ⟨b, o, rfl, fun j hj => by have := hc j hj; rwa [addr_add] at this⟩
theorem extract_list (x : ByteArray) (i m : Nat) : (x.extract i (i + m)).toList = (x.toList.drop i).take m := by
  rw [ByteArray.toList_eq, ByteArray.toList_eq, ByteArray.data_extract, Array.toList_extract]
  simp [List.extract]

set_option maxRecDepth 100000 in
set_option maxHeartbeats 2000000 in
theorem sync_walk (a b c : Int) (w : World) (hF : Forms w) : Calls Tryd.prog 4 #[.int .i32 a, .int .i32 b, .int .i32 c] w fun e w' => e = .returned (.bool true) ∧ Below w.heap.size w w' := by
  have hw := works_any w hF
  by_cases ha : scB a = true
  · by_cases hb : scB b = true
    · by_cases hc : scB c = true
      · obtain ⟨a, rfl⟩ := Int.eq_ofNat_of_zero_le (scB_iff.1 ha).1
        obtain ⟨b, rfl⟩ := Int.eq_ofNat_of_zero_le (scB_iff.1 hb).1
        obtain ⟨c, rfl⟩ := Int.eq_ofNat_of_zero_le (scB_iff.1 hc).1
        have ha' := Hid.mk' ha
        have hb' := Hid.mk' hb
        have hc' := Hid.mk' hc
        obtain ⟨s, hs⟩ : ∃ s, Hid (str (unit (a : Int).toNat) = s) := ⟨_, rfl⟩
        obtain ⟨t, ht⟩ : ∃ t, Hid (str (unit (b : Int).toNat) = t) := ⟨_, rfl⟩
        obtain ⟨y, hy⟩ : ∃ y, Hid (str (unit (c : Int).toNat) = y) := ⟨_, rfl⟩
        have hss : s.size = uk a + 1 := by rw [← hs.out, str_size, Int.toNat_natCast, unit_length]
        have hts : t.size = uk b + 1 := by rw [← ht.out, str_size, Int.toNat_natCast, unit_length]
        have hys : y.size = uk c + 1 := by rw [← hy.out, str_size, Int.toNat_natCast, unit_length]
        have k1 := uk_le a
        have k2 := uk_le b
        have k3 := uk_le c
        have hpb := put_bytes
        go_enter Tryd.func4, Tryd.ntmps4
        go_wp2_with (first | (go_at_call 5; refine hw.mono ?_; rintro e w1 ⟨rfl, hg1⟩; have F1 := hF.kept0 hg1; clear hw hF) | (go_at_call 6; refine (scalar_ref _ _).mono ?_; rintro e w' ⟨rfl, hw⟩; obtain rfl := hw) | (go_at_call_of 7 (Value.int IntKind.i32 (a : Int)); refine (set_at (a : Int) _ (by assumption) ha'.out s hs.out).mono ?_; rintro e w2 ⟨rfl, hg2⟩; have F2 := F1.kept0 hg2; clear F1) | (go_at_call_of 7 (Value.int IntKind.i32 (b : Int)); refine (set_at (b : Int) _ (by assumption) hb'.out t ht.out).mono ?_; rintro e w3 ⟨rfl, hg3⟩; have F3 := F2.kept0 hg3; clear F2) | (go_at_call_of 7 (Value.int IntKind.i32 (c : Int)); refine (set_at (c : Int) _ (by assumption) hc'.out y hy.out).mono ?_; rintro e w4 ⟨rfl, hg4⟩; have F4 := F3.kept0 hg4; clear F3))
        go_loopw [9] (fun t9 wx => ∃ i : Nat, i ≤ 9 ∧ t9 = .int .i64 (i : Int) ∧ wx = w4) (fun t9 _ => 10 - (intOf t9).toNat)
        case atStart => exact ⟨0, by omega, rfl, rfl⟩
        case round =>
          obtain ⟨i, hi, rfl, rfl⟩ := hrel
          by_cases hle : i + (uk c + 1) ≤ uk a + 1 + (uk b + 1)
          · have hm : Hid (((s ++ t).extract i (i + (uk c + 1))).toList = y.toList → i = 0 ∨ i + (uk c + 1) = uk a + 1 + (uk b + 1)) := by
              refine (?_ : _ → _)
              intro h
              have hxy : (s ++ t).toList = unit a ++ unit b := by
                rw [← hs.out, ← ht.out, Int.toNat_natCast, Int.toNat_natCast, ByteArray.toList_eq]
                simp [str]
              have hyl : y.toList = unit c := by rw [← hy.out, Int.toNat_natCast, str_toList]
              have hex : ((s ++ t).extract i (i + (uk c + 1))).toList = ((unit a ++ unit b).drop i).take (unit c).length := by
                rw [extract_list, hxy, unit_length]
              rw [hex, hyl] at h
              have hl : (unit a ++ unit b).length = uk a + 1 + (uk b + 1) := by rw [List.length_append, unit_length, unit_length]
              rcases sync_math ha'.out hb'.out hc'.out (by rw [hl, unit_length]; omega) h with e | e
              · exact .inl e
              · rw [hl, unit_length] at e
                exact .inr (by omega)
            go_wp2
            all_goals first | exact ⟨⟨i + 1, by omega, by go_num, trivial⟩, by simp [intOf]; omega⟩ | (rename_i h3 h2 h1; exfalso; rcases hm.out h3 with e | e; exact h2 e; have h4 := h1.2; simp at h4; omega)
          · have hle' : (uk a : Int) + 1 + ((uk b : Int) + 1) < (i : Int) + ((uk c : Int) + 1) := by omega
            obtain ⟨cc, w5, hcv, hB5, hg5, hcc, hcm⟩ := conv_new (P := Tryd.prog) wr 9 35 (s ++ t ++ y) Tryd.underlying9 Tryd.underlying35 Tryd.underlying5 (by rw [ByteArray.size_append, ByteArray.size_append]; omega)
            have hD : (s ++ t ++ y).toList = unit a ++ (unit b ++ (unit c ++ [])) := by
              rw [← hs.out, ← ht.out, ← hy.out, Int.toNat_natCast, Int.toNat_natCast, Int.toNat_natCast, ByteArray.toList_eq]
              simp [str]
            have hsz : (s ++ t ++ y).size = (s ++ t ++ y).toList.length := by rw [ByteArray.toList_eq, Array.length_toList]; rfl
            obtain ⟨D, hDe⟩ : ∃ D, (s ++ t ++ y).toList = D := ⟨_, rfl⟩
            rw [hDe] at hB5 hD hsz
            have hDl : D.length = uk a + 1 + (uk b + 1) + (uk c + 1) := by rw [hD]; simp [unit_length]; omega
            rw [hsz, hDl] at hcv
            rw [hsz] at hcc
            have hsc : scanAll D = ([a, b, c], uk a + 1 + (uk b + 1 + (uk c + 1)), 0) := by
              rw [hD, scan_unit ha'.out, scan_unit hb'.out, scan_unit hc'.out, scanAll_nil]
              simp [unit_length]
            have hE : Hid ((scanAll D).2.2 = 0) := by refine (?_ : (scanAll D).2.2 = 0); rw [hsc]
            have hU : Hid ([a, b, c] = if (0 : Int) = 0 then (scanAll D).1 else []) := by refine (?_ : [a, b, c] = _); rw [if_pos rfl, hsc]
            have hB6 : Hid (Bytes w5 (some ⟨wr.heap.size, 0, none⟩) D) := hB5
            have hF6 : Hid (Forms w5) := F4.kept0 hg5
            have hgw : Hid (w.grownBy w5 none) := grownBy_trans (grownBy_trans (grownBy_trans hg1 hg2) (grownBy_trans hg3 hg4)) hg5
            have key : Hid (Calls Tryd.prog 8 #[.slice (some ⟨wr.heap.size, 0, none⟩) (uk a + 1 + (uk b + 1) + (uk c + 1)) cc] w5 fun e w' => ∃ ro rc, e = .returned (.tuple #[.slice ro 3 rc, .int .i64 0]) ∧ MemR.Bytes w' ro [(a : Int), (b : Int), (c : Int)] ∧ w5.grownBy w' none) := by
              have := scalars_any (some ⟨wr.heap.size, 0, none⟩) cc D w5 hF6.out hB6.out (by omega) hcc hcm 0 [a, b, c] hE hU
              rw [hDl] at this
              exact this
            clear hB5 F4 hg1 hg2 hg3 hg4 hg5 hDe hD hsz hsc hcc hE hU
            go_wp2_with (go_at_call 8; refine key.out.mono ?_; rintro e w6 ⟨ro, rc, rfl, hR, hg6⟩; obtain ⟨rb, rof, rfl, q⟩ := runes_at hR; have q0 := q 0 (by simp); have q1 := q 1 (by simp); have q2 := q 2 (by simp); simp only [Nat.add_zero, List.getElem_cons_zero, List.getElem_cons_succ] at q0 q1 q2; clear q hR key)
            go_ret
            exact ⟨rfl, (Below.refl _ w).grown (grownBy_trans hgw.out hg6) (Nat.le_refl _) (by simp)⟩
      · have hc : scB c = false := by simpa using hc
        go_enter Tryd.func4, Tryd.ntmps4
        go_wp2_with (first | (go_at_call 5; refine hw.mono ?_; rintro e w1 ⟨rfl, hg1⟩; clear hw hF) | (go_at_call 6; refine (scalar_ref _ _).mono ?_; rintro e w' ⟨rfl, hw⟩; obtain rfl := hw))
        go_ret
        exact ⟨rfl, (Below.refl _ w).grown hg1 (Nat.le_refl _) (by simp)⟩
    · have hb : scB b = false := by simpa using hb
      go_enter Tryd.func4, Tryd.ntmps4
      go_wp2_with (first | (go_at_call 5; refine hw.mono ?_; rintro e w1 ⟨rfl, hg1⟩; clear hw hF) | (go_at_call 6; refine (scalar_ref _ _).mono ?_; rintro e w' ⟨rfl, hw⟩; obtain rfl := hw))
      go_ret
      exact ⟨rfl, (Below.refl _ w).grown hg1 (Nat.le_refl _) (by simp)⟩
  · have ha : scB a = false := by simpa using ha
    go_enter Tryd.func4, Tryd.ntmps4
    go_wp2_with (first | (go_at_call 5; refine hw.mono ?_; rintro e w1 ⟨rfl, hg1⟩; clear hw hF) | (go_at_call 6; refine (scalar_ref _ _).mono ?_; rintro e w' ⟨rfl, hw⟩; obtain rfl := hw))
    go_ret
    exact ⟨rfl, (Below.refl _ w).grown hg1 (Nat.le_refl _) (by simp)⟩
end Go.Proofs.YtbbegadpkpdiaabDoor.U8
