/- What the laws of layer 23 want of the program; NamesTells, NamesLooks: walks. -/
import Derived.Test.YtljkncgbabiojaaNQ23
import Derived.WalkSpells
import Derived.WalkLawsBesides
namespace Go.Proofs.Ytljkncgbabiojaa.C23
open Go.ChangeShapes Go.WideShapes Go.ChangeAt Go.RowKit Go.Proofs.Ytljkncgbabiojaa.Mem Go.Proofs.Ytljkncgbabiojaa.El Go.Proofs.Ytljkncgbabiojaa.St Go.Proofs.Ytljkncgbabiojaa.Ri Go.Proofs.Ytljkncgbabiojaa.Sx Go.Proofs.Ytljkncgbabiojaa.Cb Go.Proofs.Ytljkncgbabiojaa.Ar
set_option linter.unusedVariables false
set_option linter.unusedSimpArgs false

def I64 (k : Int) : Prop := -9223372036854775808 ≤ k ∧ k ≤ 9223372036854775807
def lkE (K : Nat) : Int := if K = 0 then 20 else 0
structure Con (P : World → Prop) : Prop where
  keep : ∀ {w w' : World}, P w → w.grownBy w' none → P w'
  alias : ∀ (k : Int) (hk : I64 k) (w : World), P w → Calls Try.prog 6 #[.int .i64 k] w fun e w' => STold w (al k) e w'
  name : ∀ (k : Int) (hk : I64 k) (w : World), P w → Calls Try.prog 8 #[.int .i64 k] w fun e w' => e = .returned (.string (str (nm k))) ∧ w.grownBy w' none
  kinds : ∀ (w : World), P w → Calls Try.prog 10 #[] w fun e w' => ∃ ao cap, e = .returned (.slice ao 56 cap) ∧ IiE.Own w' ao cap kdI ∧ w.grownBy w' none ∧ ∀ g, blk ao = some g → w.heap.size ≤ g
  looks : ∀ (s : List UInt8) (hs : s.length ≤ 140737488351232) (w : World), P w → Calls Try.prog 13 #[.iface 9 (.string (str s))] w fun e w' => e = .returned (.tuple #[.int .i64 (fd s : Int), .int .i64 (lkE (fd s))]) ∧ w.grownBy w' none
  lookn : ∀ (n : Int) (hn : I64 n) (w : World), P w → Calls Try.prog 13 #[.iface 3 (.int .i64 n)] w fun e w' => e = .returned (if nm n = [] then .tuple #[.int .i64 0, .int .i64 5] else .tuple #[.int .i64 n, .int .i64 0]) ∧ w.grownBy w' none
  looke : ∀ (v : Value) (hv : v = .nilIface ∨ ∃ (T : Nat) (x : Value), (T = 4 ∨ T = 29 ∨ T = 2) ∧ v = .iface T x) (w : World), P w → Calls Try.prog 13 #[v] w fun e w' => e = .returned (.tuple #[.int .i64 0, .int .i64 3]) ∧ w.grownBy w' none
set_option maxRecDepth 100000 in
set_option maxHeartbeats 1000000 in
theorem same_any (ao bo : Option Addr) (ca cb : Nat) (X : List (List UInt8)) (n : Nat) (hn : X.length = n) (w : World) (hA : StE.Rd w ao X) (hB : StE.Rd w bo X) (h1 : n ≤ ca) (h2 : ca ≤ 9223372036854775807) (h3 : n ≤ cb) (h4 : cb ≤ 9223372036854775807) : Calls Try.prog 7 #[.slice ao n ca, .slice bo n cb] w fun e w' => e = .returned (.bool true) ∧ w.grownBy w' none := by
  have hA0 := Hid.mk' hA
  have hB0 := Hid.mk' hB
  have hn0 := Hid.mk' hn
  clear hA hB hn
  go_enter Try.func7, Try.ntmps7
  go_wp2
  go_loopw [5] (fun t5 wx => ∃ i : Nat, i ≤ n ∧ t5 = .int .i64 (i : Int) ∧ Hid (w.grownBy wx none)) (fun t5 _ => n - (intOf t5).toNat)
  case atStart => exact ⟨0, by omega, rfl, Hid.mk' (grownBy_refl _ _)⟩
  case round =>
    obtain ⟨i, hi, rfl, hgx⟩ := hrel
    by_cases hlt : i < n
    · have hiL : i < X.length := by rw [hn0.out]; exact hlt
      obtain ⟨b, o, rfl, hb, x0⟩ := stcell (hA0.out.kept0 hgx.out) hiL
      obtain ⟨b', o', rfl, hb', y0⟩ := stcell (hB0.out.kept0 hgx.out) hiL
      have hlt' : (i : Int) < (n : Int) := by omega
      have hi0 : (0 : Int) ≤ (i : Int) := by omega
      generalize str X[i] = z at x0 y0
      clear hiL
      go_wp2
      go_quiet (fail)
      go_wp2
      go_roundw
      case rel => exact ⟨i + 1, by omega, by go_num, Hid.mk' (gt hgx.out ⟨rfl, rfl, rfl, Nat.le_refl _, fun _ _ _ => rfl⟩)⟩
      all_goals (simp [intOf] <;> omega)
    · obtain rfl : i = n := by omega
      go_wp2
      go_ret
      exact ⟨rfl, hgx.out⟩
set_option maxRecDepth 100000 in
set_option maxHeartbeats 3000000 in
theorem tells_walk {P : World → Prop} (C : Con P) (k : Int) (hk : I64 k) (w : World) (hw : P w) : Calls Try.prog 3 #[.int .i64 k] w fun e w' => e = .returned (.bool true) ∧ w.grownBy w' none := by
  obtain ⟨T, hT⟩ : ∃ T, Hid (al k = T) := ⟨_, Hid.mk' rfl⟩
  have a1 := Hid.mk' (fun w hw => C.alias k hk w hw)
  have a2 := Hid.mk' (aliases_any k)
  have a3 := Hid.mk' (fun w hw => C.name k hk w hw)
  have a4 := Hid.mk' (name_any k)
  have a5 := Hid.mk' (fun w hw => C.kinds w hw)
  have a6 := Hid.mk' kinds_any
  rw [hT.out] at a1 a2
  obtain ⟨ns, hns⟩ : ∃ x, str (nm k) = x := ⟨_, rfl⟩
  rw [hns] at a3 a4
  have hTl : T.length ≤ 5 := by rw [← hT.out]; exact (al_short k).1
  have K := Hid.mk' (fun (a b : World) (h : P a) (g : a.grownBy b none) => C.keep h g)
  have hq := Hid.mk' hw
  obtain ⟨n, hn⟩ : ∃ n, Hid (T.length = n) := ⟨_, Hid.mk' rfl⟩
  clear C hw hT hns
  go_enter Try.func3, Try.ntmps3
  go_upto_region 3 with (first
    | (go_at_call 5; refine (a2.out _).mono ?_; rintro e w1 ⟨bo, cb, rfl, oB, hg1, fB⟩; have hP1 := Hid.mk' (K.out _ _ hq.out hg1))
    | (go_at_call 6; refine (a1.out _ hP1.out).mono ?_; rintro e w2 ⟨ao, ca, rfl, oA, hg2, fA⟩))
  have oA2 := Hid.mk' oA
  have rA := Hid.mk' oA.rd
  have rB := Hid.mk' (oB.rd.kept0 hg2)
  have hne : Hid (blk bo = none ∨ blk bo ≠ blk ao) := Hid.mk' (by
    cases hb : blk bo with
    | none => exact .inl rfl
    | some q =>
      refine .inr (fun e => ?_)
      have h1 := fA q e.symm
      have h2 := oB.lt hb
      omega)
  have hG2 := Hid.mk' (gt hg1 hg2)
  have fA2 : Hid (∀ g, blk ao = some g → w.heap.size ≤ g) := Hid.mk' (fun g hg => by have := fA g hg; have := hg1.size; omega)
  have q1 := oA.cap_le
  have q2 := oA.cap_max
  have q3 := oB.cap_le
  have q4 := oB.cap_max
  have hP2 := Hid.mk' (K.out _ _ hP1.out hg2)
  rw [hn.out] at q1 q3 hTl
  rw [hn.out]
  clear oA oB hg1 hg2 fA fB
  go_upto_region 6 with (first
    | (go_at_call 7; refine (same_any ao bo ca cb T n hn.out _ rA.out rB.out q1 q2 q3 q4).mono ?_; rintro e w3 ⟨rfl, hg3⟩; have hP3 := Hid.mk' (K.out _ _ hP2.out hg3))
    | (go_at_call 8; refine (a3.out _ hP3.out).mono ?_; rintro e w4 ⟨rfl, hg4⟩)
    | (go_at_call 9; refine (a4.out _).mono ?_; rintro e w5 ⟨rfl, hg5⟩))
  have hG5 := Hid.mk' (gt hg3 (gt hg4 hg5))
  clear hg3 hg4 hg5
  go_loopw [5] (fun t5 wx => ∃ (i : Nat) (X : List (List UInt8)), i ≤ n ∧ t5 = .int .i64 (i : Int) ∧ Hid (StE.Own wx ao ca X) ∧ Hid (X.length = n) ∧ Hid (w5.grownBy wx (blk ao))) (fun t5 _ => n - (intOf t5).toNat)
  case atStart => exact ⟨0, T, by omega, rfl, Hid.mk' (oA2.out.kept0 hG5.out), hn, Hid.mk' (grownBy_refl _ _)⟩
  case round =>
    obtain ⟨i, X, hi, rfl, oX, hX, hg6⟩ := hrel
    by_cases hlt : i < n
    · have hiX : i < X.length := by rw [hX.out]; exact hlt
      obtain ⟨g, rfl, hgl, hfr, hcl⟩ := oX.out.at (List.ne_nil_of_length_pos (by omega))
      have x0 : wr.cell? ⟨g, i, none⟩ = some (.string (str X[i])) := by
        have := hcl i hiX 0 _ rfl
        have e : i * StE.size + 0 = i := Nat.mul_one i
        rw [e] at this
        exact this
      have z0 := hfr i
      have hlt' : (i : Int) < (n : Int) := by omega
      have hi0 : (0 : Int) ≤ (i : Int) := by omega
      clear hcl hfr
      go_wp2
      go_roundw
      case rel =>
        refine ⟨i + 1, X.set i [115, 112, 111, 105, 108, 116], by omega, by go_num, Hid.mk' ?_, Hid.mk' (by rw [List.length_set]; exact hX.out), Hid.mk' ?_⟩
        · have h1 := oX.out.set i hiX 0 (by decide) (.string (str [115, 112, 111, 105, 108, 116])) [115, 112, 111, 105, 108, 116] rfl
          have e : i * StE.size + 0 = i := Nat.mul_one i
          rw [e] at h1
          exact h1
        · exact gt hg6.out (grownBy_setCell _ _ _)
      all_goals (simp [intOf] <;> omega)
    · obtain rfl : i = n := by omega
      have hG6 : Hid (w.grownBy wr none) := Hid.mk' (grownBy_new (gt hG2.out hG5.out) hg6.out (fun g hg => fA2.out g hg))
      have hP6 := Hid.mk' (K.out _ _ hq.out hG6.out)
      have rB6 := Hid.mk' ((rB.out.kept0 hG5.out).kept hg6.out hne.out)
      go_upto_region 10 with (first
        | (go_at_call 10; refine (a5.out _ hP6.out).mono ?_; rintro e w7 ⟨ko, kc, rfl, oK, hg7, fK⟩; have hP7 := Hid.mk' (K.out _ _ hP6.out hg7))
        | (go_at_call 11; refine (a6.out _).mono ?_; rintro e w8 ⟨jo, jc, rfl, oJ, hg8, fJ⟩; have hP8 := Hid.mk' (K.out _ _ hP7.out hg8)))
      have rK := Hid.mk' (oK.rd.kept0 hg8)
      have rJ := Hid.mk' oJ.rd
      have p1 : 56 ≤ kc := by have := oK.cap_le; rw [kdI_len] at this; exact this
      have p2 := oK.cap_max
      have p3 : 56 ≤ jc := by have := oJ.cap_le; rw [kdI_len] at this; exact this
      have p4 := oJ.cap_max
      have hG8 := Hid.mk' (gt hG6.out (gt hg7 hg8))
      have rB8 := Hid.mk' (rB6.out.kept0 (gt hg7 hg8))
      clear oK oJ hg7 hg8 fK fJ oX hX hg6
      go_upto_region 13 with (first
        | (go_at_call 6; refine (a1.out _ hP8.out).mono ?_; rintro e w9 ⟨co, cc, rfl, oC, hg9, fC⟩; (try rw [hn.out]))
        | (go_at_call 7; refine (same_any co bo cc cb T i hn.out _ oC.rd (rB8.out.kept0 hg9) (by have := oC.cap_le; rw [hn.out] at this; exact this) oC.cap_max q3 q4).mono ?_; rintro e w10 ⟨rfl, hg10⟩))
      have hG10 := Hid.mk' (gt hg9 hg10)
      clear hg9 hg10 fC
      go_loopw [8] (fun t8 wx => ∃ (j : Nat), j ≤ 56 ∧ t8 = .int .i64 (j : Int) ∧ Hid (w10.grownBy wx none)) (fun t8 _ => 56 - (intOf t8).toNat)
      case atStart => exact ⟨0, by omega, rfl, Hid.mk' (grownBy_refl _ _)⟩
      case round =>
        obtain ⟨j, hj, rfl, hg11⟩ := hrel
        by_cases hjl : j < 56
        · obtain ⟨b, o, rfl, hb, y0⟩ := icell (rK.out.kept0 (gt hG10.out hg11.out)) (i := j) (by rw [kdI_len]; exact hjl)
          obtain ⟨c, o2, rfl, hc, x0⟩ := icell (rJ.out.kept0 (gt hG10.out hg11.out)) (i := j) (by rw [kdI_len]; exact hjl)
          have hlt' : (j : Int) < 56 := by omega
          have hi0 : (0 : Int) ≤ (j : Int) := by omega
          generalize kdI[j]'(by rw [kdI_len]; exact hjl) = z at x0 y0
          go_wp2
          go_quiet (fail)
          go_wp2
          go_roundw
          case rel => exact ⟨j + 1, by omega, by go_num, Hid.mk' (gt hg11.out ⟨rfl, rfl, rfl, Nat.le_refl _, fun _ _ _ => rfl⟩)⟩
          all_goals (simp [intOf] <;> omega)
        · obtain rfl : j = 56 := by omega
          go_wp2
          go_ret
          exact ⟨rfl, gt hG8.out (gt hG10.out hg11.out)⟩
end Go.Proofs.Ytljkncgbabiojaa.C23
