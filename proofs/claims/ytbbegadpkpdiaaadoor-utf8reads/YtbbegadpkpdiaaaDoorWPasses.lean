/- Utf8Passes: the walk. -/
import Derived.Test.YtbbegadpkpdiaaaDoorWorks
import Derived.Test.YtbbegadpkpdiaaaDoorArgs
namespace Go.Proofs.YtbbegadpkpdiaaaDoor.U8
open Go.ChangeShapes Go.WideShapes Go.ChangeAt Go.RowKit Go.Proofs.YtbbegadpkpdiaaaDoor.Mem Go.Proofs.YtbbegadpkpdiaaaDoor.Ucs
set_option linter.unusedVariables false

theorem pass_math {L : List UInt8} {x a : Nat} (hx : scB (x : Int) = true) (ha : a < L.length) :
    get ((L ++ unit x).drop a) ≠ .more ∧ 1 ≤ (get ((L ++ unit x).drop a)).n ∧ a + (get ((L ++ unit x).drop a)).n ≤ L.length := by
  have hl := (ix_lead (sc_le hx)).2.2
  have e : (L ++ unit x).drop a = L.drop a ++ (lead x :: tls (uk x) x) := by rw [List.drop_append_of_le_length (by omega), unit_eq]
  have hm : 1 ≤ (L.drop a).length := by simp; omega
  have hml : (L.drop a).length = L.length - a := by simp
  rw [e]
  generalize L.drop a = M at *
  have h1 : get (M ++ lead x :: tls (uk x) x) ≠ .more := by
    intro h
    refine hl ((get_more h).2 _ ?_)
    obtain ⟨c, r, rfl⟩ := List.exists_cons_of_ne_nil (List.ne_nil_of_length_pos hm)
    simp
  obtain ⟨h2, h3, h4⟩ := get_n h1
  refine ⟨h1, h2, ?_⟩
  by_cases hle : (get (M ++ lead x :: tls (uk x) x)).n ≤ M.length
  · omega
  · exfalso
    refine hl (h4 _ ?_)
    generalize (get (M ++ lead x :: tls (uk x) x)).n = n at *
    obtain ⟨c, r, rfl⟩ := List.exists_cons_of_ne_nil (List.ne_nil_of_length_pos hm)
    obtain ⟨k, rfl⟩ : ∃ k, n = k + 1 := ⟨n - 1, by omega⟩
    rw [List.cons_append, List.take_succ_cons, List.drop_succ_cons, List.drop_zero, List.take_append]
    refine List.mem_append.2 (.inr ?_)
    rw [show k - r.length = (k - r.length - 1) + 1 by simp at hle; omega, List.take_succ_cons]
    simp
theorem err_ne {R : Res} (h : R ≠ .more) : R.err ≠ 1 := by
  rcases R with _ | n | ⟨n, u⟩ <;> simp [Res.err] at *
theorem blk_ne0 {w : World} (h : Forms w) (o : Nat) (t : Option Nat) : blk (some ⟨w.heap.size, o, t⟩) ≠ some 0 := by
  intro e
  have e' : w.heap.size = 0 := Option.some.inj e
  have := h.pos
  omega
theorem info5' : (Tryd.prog.info? 5).map (fun i => (i.zero, i.size, i.bytes)) = some (some (.int .u8 0), 1, 1) := by kernel_rfl

set_option maxRecDepth 100000 in
set_option maxHeartbeats 2000000 in
theorem passes_walk (u : Int) (ao : Option Addr) (cap : Nat) (L : List UInt8) (w : World) (hF : Forms w) (hB : Bytes w ao L) (hc : L.length ≤ 140737488351232) :
    Calls Tryd.prog 8 #[.slice ao L.length cap, .int .i32 u] w fun e w' => e = .returned (.bool true) ∧ Below w.heap.size w w' := by
  have hw := works_any w hF
  by_cases hlen : 2000 < L.length
  · have hlen' : (2000 : Int) < (L.length : Int) := by omega
    go_enter Tryd.func8, Tryd.ntmps8
    go_wp2_with (go_at_call 17; refine hw.mono ?_; rintro e w1 ⟨rfl, hg1⟩; clear hw hF hB)
    go_ret
    exact ⟨rfl, (Below.refl _ w).grown hg1 (Nat.le_refl _) (by simp)⟩
  · have hlen' : (L.length : Int) ≤ 2000 := by omega
    clear hlen
    by_cases hu : scB u = true
    · obtain ⟨i0, hi, hz0, hz1, hz2⟩ := info_parts info5'
      obtain ⟨x, rfl⟩ := Int.eq_ofNat_of_zero_le (scB_iff.1 hu).1
      have hu' := Hid.mk' hu
      obtain ⟨s, hs⟩ : ∃ s, Hid (str (unit (x : Int).toNat) = s) := ⟨_, rfl⟩
      have hpb := put_bytes
      have hul := unit_length x
      have huk := uk_le x
      have hsd : Hid (s.data.toList.length = (unit x).length) := by
        refine (?_ : s.data.toList.length = (unit x).length)
        rw [← hs.out, Int.toNat_natCast, str_data]
      have hsd' : Hid (s.data.toList = unit x) := by
        refine (?_ : s.data.toList = unit x)
        rw [← hs.out, Int.toNat_natCast, str_data]
      obtain ⟨D, hD'⟩ : ∃ D, Hid (D = L ++ unit x) := ⟨_, rfl⟩
      have hDl : D.length = L.length + (unit x).length := by rw [hD'.out]; simp
      have hsz : s.size = (unit x).length := by rw [← hs.out, Int.toNat_natCast, str_size]
      go_enter Tryd.func8, Tryd.ntmps8
      go_wp2_with (first | (go_at_call 17; refine hw.mono ?_; rintro e w1 ⟨rfl, hg1⟩; have F1 := hF.kept0 hg1; have B1 := hB.kept0 hg1; clear hw hF hB) | (go_at_call 18; refine (scalar_ref _ _).mono ?_; rintro e w' ⟨rfl, hw⟩; obtain rfl := hw) | (go_at_call 11; refine (set_at (x : Int) _ (by assumption) hu'.out s hs.out).mono ?_; rintro e w2 ⟨rfl, hg2⟩; have F2 := F1.kept0 hg2; have B2 := B1.kept0 hg2; clear F1 B1) | (at_builtin; refine wpList_append_any _ rfl _ _ 22 22 rfl i0 Tryd.underlying22 hi hz0 hz1 hz2 _ _ [] rfl (own_made _) _ rfl L (src_of (B2.alloc _) 22 cap Tryd.underlying22) (by simp; omega) L rfl ?_; intro ao1 c1 w3 ho1 hg3 hat1; clear B2) | (at_builtin; refine wpList_append_any _ rfl _ _ 22 9 rfl i0 Tryd.underlying22 hi hz0 hz1 hz2 _ _ L rfl ho1 _ rfl s.data.toList (src_str s 9 Tryd.underlying9) (by rw [hsd.out]; omega) D (by rw [hsd'.out, hD'.out]) ?_; intro ao2 c2 w4 ho2 hg4 hat2; clear ho1))
      have hF4 : Hid (Forms w4) := by
        refine (?_ : Forms w4)
        have h3 : Forms w3 := (F2.alloc _).kept hg3 (blk_ne0 F2 _ _)
        refine h3.kept hg4 ?_
        rcases hat1 with rfl | rfl
        · exact blk_ne0 F2 _ _
        · exact blk_ne0 (F2.alloc _) _ _
      have hg5 : Hid (w.grownBy w4 none) := by
        refine (?_ : w.grownBy w4 none)
        have k2 : w.grownBy w2 none := grownBy_trans hg1 hg2
        have k3 : w.grownBy w3 none := grownBy_new (grownBy_trans k2 (World.grownBy_alloc _ _ _)) hg3 (by intro g e; have := Option.some.inj e; have := k2.size; simp at *; omega)
        refine grownBy_new k3 hg4 ?_
        intro g e
        rcases hat1 with rfl | rfl
        · have := Option.some.inj e; have := k2.size; simp at *; omega
        · have := Option.some.inj e; have := k2.size; simp at *; omega
      have hcap := ho2.cap_le
      have hcm := ho2.cap_max
      have hB4 : Hid (Bytes w4 ao2 D) := ho2.bytes
      have hmath : Hid (∀ a, a < L.length → get (D.drop a) ≠ .more ∧ 1 ≤ (get (D.drop a)).n ∧ a + (get (D.drop a)).n ≤ L.length) := by
        refine (?_ : ∀ a, _)
        intro a ha
        rw [hD'.out]
        exact pass_math hu'.out ha
      have hend : Hid (get (D.drop L.length) = .ok (unit x).length x) := by
        refine (?_ : get (D.drop L.length) = _)
        rw [hD'.out, List.drop_left]
        have := get_unit hu'.out []
        rwa [List.append_nil] at this
      clear ho2 hat1 hat2 hg1 hg2 hg3 hg4 F2
      go_loopw [7] (fun t7 wx => ∃ a : Nat, a ≤ L.length ∧ t7 = .int .i64 (a : Int) ∧ Hid (Forms wx) ∧ Hid (Bytes wx ao2 D) ∧ Hid (w.grownBy wx none)) (fun t7 _ => L.length - (intOf t7).toNat)
      case atStart => exact ⟨0, by omega, rfl, hF4, hB4, hg5⟩
      case round =>
        obtain ⟨a, ha, rfl, hFx, hBx, hgx⟩ := hrel
        clear hF4 hB4 hg5
        by_cases hlt : a < L.length
        · have hlt' : (a : Int) < (L.length : Int) := by omega
          obtain ⟨m1, m2, m3⟩ := hmath.out a hlt
          obtain ⟨R, hR⟩ : ∃ R, Hid (get (D.drop a) = R) := ⟨_, rfl⟩
          rw [hR.out] at m1 m2 m3
          have he : (R.err == 1) = false := by simpa using err_ne m1
          have m2' : decide ((R.n : Int) < 1) = false := decide_eq_false (by omega)
          have hBd : Hid (Bytes wr (ao2.map (·.add a)) (D.drop a)) := by
            have := hBx.out.drop a c2 hcap
            rwa [if_neg (by omega)] at this
          clear m1
          go_wp2_with (go_at_call 9; refine (get_at _ _ _ (D.drop a) _ hFx.out hBd.out (by rw [List.length_drop, hDl, hul]) (by omega) R hR.out).mono ?_; rintro e w5 ⟨rfl, hg5⟩)
          go_roundw
          case rel => exact ⟨a + R.n, by omega, by go_num, (hFx.out.kept0 hg5).alloc _, (hBx.out.kept0 hg5).alloc _, grownBy_trans hgx.out (grownBy_trans hg5 (World.grownBy_alloc _ _ _))⟩
          case measure => simp [intOf]; omega
        · obtain rfl : a = L.length := by omega
          have hBd : Hid (Bytes wr (ao2.map (·.add L.length)) (D.drop L.length)) := by
            have := hBx.out.drop L.length c2 hcap
            rwa [if_neg (by omega)] at this
          go_wp2_with (go_at_call 9; refine (get_at _ _ _ (D.drop L.length) _ hFx.out hBd.out (by rw [List.length_drop, hDl, hul]; omega) (by omega) _ hend.out).mono ?_; rintro e w5 ⟨rfl, hg5⟩; simp only [Res.err, Res.n, Res.k, Res.a])
          go_ret
          exact ⟨rfl, (Below.refl _ w).grown (grownBy_trans hgx.out hg5) (Nat.le_refl _) (by simp)⟩
    · have hu : scB u = false := by simpa using hu
      go_enter Tryd.func8, Tryd.ntmps8
      go_wp2_with (first | (go_at_call 17; refine hw.mono ?_; rintro e w1 ⟨rfl, hg1⟩; clear hw hF hB) | (go_at_call 18; refine (scalar_ref _ _).mono ?_; rintro e w' ⟨rfl, hw⟩; obtain rfl := hw))
      go_ret
      exact ⟨rfl, (Below.refl _ w).grown hg1 (Nat.le_refl _) (by simp)⟩
end Go.Proofs.YtbbegadpkpdiaaaDoor.U8
