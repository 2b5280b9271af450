/- look, count, and what a table tells: walks. -/
import Derived.Test.YtcoiddmgcoeocaaNw
import Derived.Test.YtcoiddmgcoeocaaTs
namespace Go.Proofs.Ytcoiddmgcoeocaa.Tr
open Go.ChangeShapes Go.WideShapes Go.ChangeAt Go.RowKit Go.Maps Go.Proofs.Ytcoiddmgcoeocaa.Mem Go.Proofs.Ytcoiddmgcoeocaa.El Go.Sort Go.Proofs.Ytcoiddmgcoeocaa.Rn
set_option linter.unusedVariables false
set_option linter.unusedSimpArgs false

/-- What stands at a number: what the two rows hold. -/
theorem SideOk.at {w : World} {co : Option Addr} {nc : Nat} {bo : Option Addr} {nb cap : Nat} {Q : List Pr} {C : List Int} (h : SideOk w co nc bo nb cap Q C) (ha : Asc Q) {key : Int} {k j : Nat} (hk : key / 64 = (k : Int)) (hj : key % 64 = (j : Int)) (hkn : k < nc) :
    ∃ c g ix : Nat, co = some ⟨c, 0, none⟩ ∧ bo = some ⟨g, 0, none⟩ ∧ ix < nb ∧ w.cell? ⟨c, k, none⟩ = some (.int .i32 (ix : Int)) ∧ w.cell? ⟨g, ix * 64 + j, none⟩ = some (.int .i32 ((look Q key).elim 0 (· + 1))) := by
  have hkl : k < C.length := by rw [h.clen]; exact hkn
  obtain ⟨c, e1, _, _, hc⟩ := h.con.at (List.ne_nil_of_length_pos (by omega))
  obtain ⟨g, e2, _, _, hg⟩ := h.own.at (by simp)
  obtain ⟨ix, i1, i2⟩ := h.leads k hkl
  have hil : ix < (zB :: allB Q).length := (List.getElem?_eq_some_iff.1 i2).1
  have hie : (zB :: allB Q)[ix] = blkB Q (k : Int) := (List.getElem?_eq_some_iff.1 i2).2
  have hj64 : j < 64 := by omega
  refine ⟨c, g, ix, e1, e2, by rw [h.nb]; simpa using hil, ?_, ?_⟩
  · have := hc k hkl 0 (.int .i32 C[k]) rfl
    have e : k * CE.size + 0 = k := Nat.mul_one k
    rw [e] at this
    rw [this]
    rw [List.getD_eq_getElem?_getD, List.getElem?_eq_getElem hkl] at i1
    simp only [Option.getD_some] at i1
    rw [i1]
  · refine hg ix hil j _ ?_
    rw [hie]
    have hcl := con_look ha (k : Int) j hj64
    rw [show 64 * (k : Int) + (j : Int) = key by omega] at hcl
    rw [List.getD_eq_getElem?_getD, List.getElem?_eq_getElem (by rw [conZ_len]; exact hj64)] at hcl
    simp only [Option.getD_some] at hcl
    show ((conZ (filt Q (k : Int))).map (Value.int .i32))[j]? = _
    rw [List.getElem?_map, List.getElem?_eq_getElem (by rw [conZ_len]; exact hj64)]
    simp [hcl]
theorem SideOk.out {w : World} {co : Option Addr} {nc : Nat} {bo : Option Addr} {nb cap : Nat} {Q : List Pr} {C : List Int} (h : SideOk w co nc bo nb cap Q C) {key : Int} (hk : (nc : Int) ≤ key / 64) : look Q key = none := by
  unfold look
  rw [List.find?_eq_none.2 ?_]
  · rfl
  · intro q hq e
    have := h.all q hq
    have e2 : q.1 = key := by simpa using e
    rw [e2] at this
    omega
def lookV (o : Option Int) : Value := .tuple #[.int .i32 (o.getD 0), .bool o.isSome]

set_option maxRecDepth 100000 in
set_option maxHeartbeats 2000000 in
theorem look_any (T off : Nat) (co : Option Addr) (nc : Nat) (bo : Option Addr) (nb cap : Nat) (Q : List Pr) (C : List Int) (key : Int) (hk1 : -9223372036854775808 ≤ key) (hk2 : key ≤ 9223372036854775807) (w : World) (h : SideOk w co nc bo nb cap Q C) (ha : Asc Q) (hv : ∀ q ∈ Q, 0 ≤ q.1 ∧ 0 ≤ q.2 ∧ q.2 ≤ 16777215) (hnb : nb ≤ 70000) (hcap : nb ≤ cap)
    (c0 : w.cell? ⟨T, off, none⟩ = some (.slice co nc nc)) (c1 : w.cell? ⟨T, off + 1, none⟩ = some (.slice bo nb cap)) (R : Option Int) (hR : Hid (look Q key = R)) :
    Calls Try.prog 24 #[.pointer (some ⟨T, off, none⟩), .int .i64 key] w fun e w' => e = .returned (lookV R) ∧ w.grownBy w' none := by
  have h0 := Hid.mk' h
  have ha0 := Hid.mk' ha
  have hv0 := Hid.mk' hv
  clear h ha hv
  by_cases hneg : key < 0
  · have hn : Hid (R = none) := Hid.mk' (by
      rw [← hR.out]
      exact look_none (fun q hq => by have := (hv0.out q hq).1; omega))
    rw [hn.out]
    go_enter Try.func24, Try.ntmps24
    go_wp2_with fail
    go_ret2
    exact ⟨rfl, grownBy_refl _ _⟩
  · have hneg' : ¬ key < 0 := hneg
    have htd : key.tdiv 64 = key / 64 := Int.tdiv_eq_ediv_of_nonneg (by omega)
    have htm : key.tmod 64 = key % 64 := Int.tmod_eq_emod_of_nonneg (by omega)
    obtain ⟨k, hk⟩ : ∃ k : Nat, key / 64 = (k : Int) := ⟨(key / 64).toNat, by omega⟩
    obtain ⟨j, hj⟩ : ∃ j : Nat, key % 64 = (j : Int) := ⟨(key % 64).toNat, by omega⟩
    have hkb : (k : Int) ≤ 144115188075855871 := by omega
    rw [hk] at htd
    rw [hj] at htm
    by_cases hkn : k < nc
    · obtain ⟨c, g, ix, rfl, rfl, hix, x0, x1⟩ := h0.out.at ha0.out hk hj hkn
      have hkn' : (k : Int) < (nc : Int) := by omega
      have hkn2 : ¬ (nc : Int) ≤ (k : Int) := by omega
      have hkn3 : decide ((nc : Int) ≤ (k : Int)) = false := decide_eq_false hkn2
      have hd : decide (key < 0) = false := decide_eq_false hneg
      have p1 : (0 : Int) ≤ (k : Int) := by omega
      have p2 : (0 : Int) ≤ (j : Int) := by omega
      have p3 : (j : Int) < 64 := by omega
      have p4 : (0 : Int) ≤ (ix : Int) := by omega
      have p5 : (ix : Int) < (nb : Int) := by omega
      have p6 : IntKind.i64.wrap (k : Int) = (k : Int) := by rw [IntKind.wrap_i64]; omega
      have p7 : j < 64 := by omega
      have hvR : Hid (∀ v, R = some v → 0 ≤ v ∧ v ≤ 16777215) := Hid.mk' (by
        intro v hv
        rw [← hR.out] at hv
        unfold look at hv
        obtain ⟨q, hq, rfl⟩ := Option.map_eq_some_iff.1 hv
        exact (hv0.out q (List.mem_of_find?_eq_some hq)).2)
      rw [hR.out] at x1
      clear hk hj
      cases R with
      | none =>
        simp only [Option.elim_none] at x1
        go_enter Try.func24, Try.ntmps24
        go_wp2_with fail
        go_quiet (fail)
        go_wp2_with fail
        go_ret2
        exact ⟨rfl, ⟨rfl, rfl, rfl, Nat.le_refl _, fun _ _ _ => rfl⟩⟩
      | some v =>
        obtain ⟨v1, v2⟩ := hvR.out v rfl
        simp only [Option.elim_some] at x1
        have v3 : ¬ v + 1 = 0 := by omega
        have v4 : (v + 1 == 0) = false := by simp; omega
        have v5 : v + 1 - 1 = v := by omega
        go_enter Try.func24, Try.ntmps24
        go_wp2_with fail
        go_quiet (fail)
        go_wp2_with fail
        go_ret2
        exact ⟨rfl, ⟨rfl, rfl, rfl, Nat.le_refl _, fun _ _ _ => rfl⟩⟩
    · have hn : Hid (R = none) := Hid.mk' (by rw [← hR.out]; exact h0.out.out (by omega))
      rw [hn.out]
      have hkn2 : (nc : Int) ≤ (k : Int) := by omega
      go_enter Try.func24, Try.ntmps24
      go_wp2_with fail
      go_ret2
      exact ⟨rfl, grownBy_refl _ _⟩
set_option maxRecDepth 100000 in
theorem count_any (T off : Nat) (bo : Option Addr) (nb cap : Nat) (w : World) (hnb : 1 ≤ nb) (hnb2 : nb ≤ 70000) (c1 : w.cell? ⟨T, off + 1, none⟩ = some (.slice bo nb cap)) :
    Calls Try.prog 27 #[.pointer (some ⟨T, off, none⟩)] w fun e w' => e = .returned (.int .i64 ((nb : Int) - 1)) ∧ w' = w := by
  go_enter Try.func27, Try.ntmps27
  go_wp2_with fail
  go_ret
  first | exact ⟨rfl, rfl⟩ | (refine ⟨?_, rfl⟩; go_num) | (refine ⟨?_, rfl⟩; congr 2; go_num)
end Go.Proofs.Ytcoiddmgcoeocaa.Tr
