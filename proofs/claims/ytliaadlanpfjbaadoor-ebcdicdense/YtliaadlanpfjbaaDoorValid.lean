/- The program's Valid: a walk. -/
import Derived.Test.YtliaadlanpfjbaaDoorWorks
import Derived.Test.YtliaadlanpfjbaaDoorScan
namespace Go.Proofs.YtliaadlanpfjbaaDoor.U8
open Go.ChangeShapes Go.WideShapes Go.ChangeAt Go.RowKit Go.Proofs.YtliaadlanpfjbaaDoor.Mem Go.Proofs.YtliaadlanpfjbaaDoor.Ucs
set_option linter.unusedVariables false

theorem ret_nb {a c : Int} {b d : Bool} (h : a = c) (g : b = d) : Ending.returned (.tuple #[.int .i64 a, .bool b]) = .returned (.tuple #[.int .i64 c, .bool d]) := by rw [h, g]
set_option maxRecDepth 100000 in
set_option maxHeartbeats 2000000 in
theorem valid_any (ao : Option Addr) (cap : Nat) (L : List UInt8) (w : World) (hF : Forms w) (hB : Bytes w ao L) (hl : L.length ≤ 140737488355328) (hc : L.length ≤ cap) (hcm : cap ≤ 9223372036854775807)
    (n : Nat) (ok : Bool) (hn : Hid ((scanAll L).2.1 = n)) (hok : Hid (decide ((scanAll L).2.2 = 0) = ok)) :
    Calls Tryd.prog 14 #[.slice ao L.length cap] w fun e w' => e = .returned (.tuple #[.int .i64 (n : Int), .bool ok]) ∧ w.grownBy w' none := by
  have hF0 : Hid (Forms w) := hF
  have hB0 : Hid (Bytes w ao L) := hB
  clear hF hB
  go_enter Tryd.func14, Tryd.ntmps14
  go_wp2
  go_loopw [4] (fun t4 wx => ∃ (a : Nat) (us : List Nat), a ≤ L.length ∧ t4 = .int .i64 (a : Int) ∧ Hid (scanAll L = (us ++ (scanAll (L.drop a)).1, a + (scanAll (L.drop a)).2.1, (scanAll (L.drop a)).2.2)) ∧ Hid (w.grownBy wx none)) (fun t4 _ => L.length - (intOf t4).toNat)
  case atStart => exact ⟨0, [], by omega, rfl, (by simp : scanAll L = _), grownBy_refl _ _⟩
  case round =>
    obtain ⟨a, us, ha, rfl, hsc, hgx⟩ := hrel
    have hFx : Hid (Forms wr) := hF0.out.kept0 hgx.out
    have hBx : Hid (Bytes wr ao L) := hB0.out.kept0 hgx.out
    by_cases hlt : a < L.length
    · have hlt' : (a : Int) < (L.length : Int) := by omega
      have hBd : Hid (Bytes wr (ao.map (·.add a)) (L.drop a)) := by
        have := hBx.out.drop a cap hc
        rwa [if_neg (by omega)] at this
      have hne : L.drop a ≠ [] := List.ne_nil_of_length_pos (by simp; omega)
      obtain ⟨R, hR⟩ : ∃ R, Hid (get (L.drop a) = R) := ⟨_, rfl⟩
      by_cases he : R.err = 0
      · obtain ⟨m, x, rfl⟩ := err_ok he
        have hm := ok_n hR.out
        rw [List.length_drop] at hm
        clear he
        go_wp2_with (go_at_call 18; refine (get_at _ _ _ (L.drop a) _ hFx.out hBd.out (by rw [List.length_drop]) (by omega) _ hR.out).mono ?_; rintro e w1 ⟨rfl, hg1⟩; simp only [Res.err, Res.n, Res.k, Res.a])
        go_roundw
        case rel =>
          refine ⟨a + m, us ++ [x], by omega, by go_num, ?_, ?_⟩
          · refine (?_ : scanAll L = _)
            rw [hsc.out, scanAll_step hR.out, List.drop_drop]
            simp [Nat.add_assoc]
          · refine (?_ : w.grownBy _ none)
            exact grownBy_trans hgx.out (grownBy_trans hg1 (World.grownBy_alloc _ _ _))
        case measure => simp [intOf]; omega
      · have hstop : Hid (n = a ∧ ok = false) := by
          refine (?_ : n = a ∧ ok = false)
          have h := hsc.out
          rw [scanAll_stop hne (by rw [hR.out]; exact he), hR.out] at h
          refine ⟨by rw [← hn.out, h]; simp, ?_⟩
          rw [← hok.out, h]
          simpa using he
        have he' : (R.err == 0) = false := by simpa using he
        have he'' : (R.err != 0) = true := by simpa using he
        go_wp2_with (go_at_call 18; refine (get_at _ _ _ (L.drop a) _ hFx.out hBd.out (by rw [List.length_drop]) (by omega) _ hR.out).mono ?_; rintro e w1 ⟨rfl, hg1⟩)
        obtain ⟨rfl, rfl⟩ := hstop.out
        go_ret2
        exact ⟨rfl, grownBy_trans hgx.out (grownBy_trans hg1 (World.grownBy_alloc _ _ _))⟩
    · obtain rfl : a = L.length := by omega
      have hend : Hid (n = L.length ∧ ok = true) := by
        refine (?_ : n = L.length ∧ ok = true)
        have h := hsc.out
        rw [List.drop_length, scanAll_nil] at h
        refine ⟨by rw [← hn.out, h]; simp, ?_⟩
        rw [← hok.out, h]
        simp
      go_wp2
      obtain ⟨rfl, rfl⟩ := hend.out
      go_ret2
      exact ⟨rfl, hgx.out⟩
end Go.Proofs.YtliaadlanpfjbaaDoor.U8
