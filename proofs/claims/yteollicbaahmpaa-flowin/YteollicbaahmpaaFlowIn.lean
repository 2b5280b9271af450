/- For every input FlowIn returns true and leaves its arguments as they were: no condition. -/
import Derived.Test.YteollicbaahmpaaRows
import Derived.WalkKit
import Derived.ProofKit
import Derived.OpenShut
import Derived.ShutString
import Derived.ChangeOld
import Derived.Below
import Derived.SizedLaws
import Derived.Test.YteollicbaahmpaaInMoves
namespace Go.Proofs.Yteollicbaahmpaa.flowIn
open Go.ChangeShapes Go.WideShapes Go.ChangeAt Go.RowKit Go.Proofs.Yteollicbaahmpaa.Mem
open Go.ChangeMaps (open_string shut_string)
set_option linter.unusedVariables false
attribute [local go_sem ↓] Go.wp_at_zero Go.wp_at_succ

theorem own : ownKnob Try.prog.godebug = none := by kernel_rfl
theorem bytes3 : Try.prog.bytesOf 3 = 8 := by kernel_rfl
theorem bytes5 : Try.prog.bytesOf 5 = 1 := by kernel_rfl
theorem laidOut : laidOutB Try.prog = true := by kernel_rfl

def IsRow (k : IntKind) (w : World) (a : Option Addr) (len cap : Nat) (zs : List Int) : Prop :=
  (a = none ∧ len = 0 ∧ cap = 0 ∧ zs = []) ∨
  ∃ x, a = some x ∧ len ≤ cap ∧ cap ≤ 140737488351232 ∧ zs.length = cap ∧ (∀ i, i < zs.length → w.cell? (x.add i) = some (.int k (zs.getD i 0))) ∧ ∀ n ∈ zs, (Lit.int k n).wf = true

set_option maxHeartbeats 4000000 in
set_option maxRecDepth 100000 in
theorem walk (a0 : Option Addr) (len0 cap0 : Nat) (z0 : List Int) (a1 : Option Addr) (len1 cap1 : Nat) (z1 : List Int) (a2 : Option Addr) (len2 cap2 : Nat) (z2 : List Int) (w : World) (w0 : IsRow .u8 w a0 len0 cap0 z0) (w1 : IsRow .i64 w a1 len1 cap1 z1) (w2 : IsRow .i64 w a2 len2 cap2 z2) :
    Calls Try.prog 3 #[.slice a0 len0 cap0, .slice a1 len1 cap1, .slice a2 len2 cap2] w fun e w' => e = .returned (.bool true) ∧ Below w.heap.size w w' := by
  obtain ⟨L, rfl, hB, hLc, hcm⟩ := bytes_of_row w0
  obtain ⟨⟨Zp, hZp⟩, hlen1⟩ := cells_of_row w1
  obtain ⟨⟨Zs, hZs⟩, hlen2⟩ := cells_of_row w2
  clear w0 w1 w2
  have HP : Hid (∀ j, j < len1 → (Lit.int .i64 (Zp j)).wf = true ∧ ∃ b o, a1 = some ⟨b, o, none⟩ ∧ b < w.heap.size ∧ w.cell? ⟨b, o + j, none⟩ = some (.int .i64 (Zp j))) := hZp
  have HS : Hid (∀ j, j < len2 → (Lit.int .i64 (Zs j)).wf = true ∧ ∃ b o, a2 = some ⟨b, o, none⟩ ∧ b < w.heap.size ∧ w.cell? ⟨b, o + j, none⟩ = some (.int .i64 (Zs j))) := hZs
  have HB : Hid (Bytes w a0 L) := hB
  clear hZp hZs hB
  obtain ⟨i0, hi, hz0, hz1, hz2⟩ := info_parts info5
  go_enter Try.func3, Try.ntmps3
  go_wp2_with (first
    | (at_builtin; refine wpList_append_any _ rfl (.tmp 15) (.tmp 16) 22 22 rfl i0 Try.underlying22 hi hz0 hz1 hz2 _ _ [] rfl (own_made w) _ rfl L (src_of (HB.out.alloc _) 22 cap0 Try.underlying22) (by simp; omega) L rfl ?_; intro oo oc w1 hown hg1' hat1; obtain ⟨hg1, go, rfl, hgo⟩ := fresh_of hg1' hat1; clear hg1' hat1)
    | (go_at_call 7; refine (newIn_any _ _ L _ hown.bytes (by omega)).mono ?_; rintro e w2 ⟨b, ao, c, rfl, hI, hg2, hb, ho⟩; have HB2 : Hid (Bytes w2 a0 L) := (HB.out.kept0 hg1).kept0 hg2)
    | (at_builtin; refine wpList_append_any _ rfl (.tmp 20) (.tmp 21) 22 22 rfl i0 Try.underlying22 hi hz0 hz1 hz2 _ _ [] rfl (own_made w2) _ rfl L (src_of (HB2.out.alloc _) 22 cap0 Try.underlying22) (by simp; omega) L rfl ?_; intro ro rc w3 hrow hg3' hat3; obtain ⟨hg3, gr, rfl, hgr⟩ := fresh_of hg3' hat3; clear hg3' hat3))
  have hR4 := refIn_made hrow (by omega)
  have hg4 := World.grownBy_alloc w3 (.cells #[.slice (some ⟨gr, 0, none⟩) L.length rc, .int .i64 0] 28) none
  obtain ⟨w4, hw4⟩ : ∃ w4, w4 = w3.alloc (.cells #[.slice (some ⟨gr, 0, none⟩) L.length rc, .int .i64 0] 28) := ⟨_, rfl⟩
  rw [← hw4] at hR4 hg4
  have hgo1 : go < w1.heap.size := hown.lt rfl
  have hI4 : InAt w4 b ao c L 0 := (hI.kept0 hg3).kept0 hg4
  have ho4 : Own w4 (some ⟨go, 0, none⟩) oc L := ((hown.kept0 hg2).kept0 hg3).kept0 hg4
  have B4 : Below w.heap.size w w4 := by
    have B1 := (Below.refl w.heap.size w).grown hg1 (Nat.le_refl _) (by simp)
    have B2 := B1.grown hg2 B1.size (by simp)
    have B3 := B2.grown hg3 B2.size (by simp)
    exact B3.grown hg4 B3.size (by simp)
  have l1 : w.heap.size ≤ w1.heap.size := hg1.size
  have l2 : w1.heap.size ≤ w2.heap.size := hg2.size
  have l3 : w2.heap.size ≤ w3.heap.size := hg3.size
  obtain ⟨r, hr⟩ : ∃ r, r = w3.heap.size := ⟨_, rfl⟩
  rw [← hr] at hR4
  have hbr : w.heap.size ≤ b ∧ w.heap.size ≤ r ∧ w.heap.size ≤ gr ∧ go ≠ b ∧ go ≠ gr ∧ go ≠ r := ⟨by omega, by omega, by omega, by omega, by omega, by omega⟩
  have hao : ∀ g, blk ao = some g → w.heap.size ≤ g ∧ g ≠ go := fun g e => ⟨by have := ho g e; omega, by have := ho g e; omega⟩
  rw [← hw4, ← hr]
  clear hw4 hr hg1 hg2 hg3 hg4 hrow hown hI HB2 hgr hb ho l1 l2 l3
  go_loopw [10] (fun i wr => ∃ (k : Nat) (M : List UInt8), i = .int .i64 k ∧ k ≤ L.length ∧ Hid (M.length = L.length) ∧ Own wr (some ⟨go, 0, none⟩) oc M ∧ w4.grownBy wr (some go)) (fun i _ => L.length - (intOf i).toNat)
  case atStart => exact ⟨0, L, rfl, by omega, rfl, ho4, grownBy_refl _ _⟩
  case round =>
    obtain ⟨k, M, rfl, hk, hM, hoM, hgM⟩ := hrel
    by_cases hlt : k < L.length
    · have hkM : k < M.length := by rw [hM.out]; exact hlt
      have hc := hoM.cell k hkM
      have hf := hoM.free k
      have hu : (M[k].toNat : Int) ≤ 255 := by have := M[k].toNat_lt; omega
      obtain ⟨u, hu2⟩ : ∃ u : Nat, Hid (M[k].toNat = u) := ⟨M[k].toNat, (rfl : M[k].toNat = M[k].toNat)⟩
      rw [hu2.out] at hc hu
      go_wp2
      obtain ⟨M', hM', ho'⟩ := hoM.put k hkM (((u : Int) + 1) % 256) (by omega) (by omega)
      go_roundw
      case rel => exact ⟨k + 1, M', by go_num, by omega, by show M'.length = _; rw [hM', hM.out], ho', grownBy_trans hgM (grownBy_setCell _ ⟨go, k, none⟩ _)⟩
      case measure => simp [intOf]; omega
    · have hI5 : InAt wr b ao c L 0 := hI4.kept hgM (by simp; omega) (by cases e : blk ao with | none => exact .inl rfl | some g => right; have := (hao g e).2; simp; omega)
      have hR5 : RefIn wr r gr (some ⟨gr, 0, none⟩) rc L 0 := hR4.keptS (Kept.of hgM) (by simp; omega) (by simp; omega)
      have B5 := B4.grown hgM B4.size (by intro j e; simp at e; omega)
      clear hI4 hR4 B4 hgM ho4 hoM hM
      go_wp2
      go_loopw [11] (fun i wr => ∃ (k p : Nat) (ro : Option Addr) (rc : Nat), i = .int .i64 k ∧ k ≤ 60 ∧ k ≤ len2 ∧ InAt wr b ao c L p ∧ RefIn wr r gr ro rc (L.drop p) p ∧ Below w.heap.size w wr) (fun i _ => 60 - (intOf i).toNat)
      case atStart => exact ⟨0, 0, _, rc, rfl, by omega, by omega, hI5, hR5, B5⟩
      case round =>
        clear hI5 hR5 B5
        obtain ⟨k, p, ro, rc, rfl, hk60, hk2, hI, hR, hbel⟩ := hrel
        have hpL := hI.le
        by_cases hlt : k < len2 ∧ k < 60
        · obtain ⟨hk1, hk3⟩ := hlt
          obtain ⟨_, sb, so, rfl, hsb, hcell⟩ := HS.out k hk1
          have hcw : wr.cell? ⟨sb, so + k, none⟩ = some (.int .i64 (Zs k)) := (hbel.cell hsb).trans hcell
          obtain ⟨D, HD⟩ : ∃ D, Hid (L.drop p = D) := ⟨_, rfl⟩
          have HDl : Hid (D.length = L.length - p) := by show D.length = _; rw [← HD.out]; simp
          rw [HD.out] at hR
          obtain ⟨n, hnP, hnN⟩ : ∃ n : Int, Hid (k < len1 → Zp k = n) ∧ Hid (¬ k < len1 → Zs k = n) := by
            by_cases hkp : k < len1
            · exact ⟨Zp k, fun _ => rfl, fun h => absurd hkp h⟩
            · exact ⟨Zs k, fun h => absurd h hkp, fun _ => rfl⟩
          obtain ⟨M, HM⟩ : ∃ M, Hid (D.take n.toNat = M) := ⟨_, rfl⟩
          have hMb : M.length ≤ 140737488351232 := by
            have h1 := HDl.out
            have h2 : M.length ≤ D.length := by rw [← HM.out, List.length_take]; omega
            omega
          have hbB : b < wr.heap.size := hI.lt
          have hrB : r < wr.heap.size := hR.lt
          have hgB : gr < wr.heap.size := hR.row.1
          have haB : Hid (∀ g, blk ao = some g → g < wr.heap.size) := fun g e => hI.own.lt e
          go_upto_if 56 with fail
          go_cut [12] (fun s12 wx => wr = wx ∧ s12 = .int .i64 n)
          case first =>
            by_cases hkp : k < len1
            · obtain ⟨_, pb, po, rfl, hpb, hpcell⟩ := HP.out k hkp
              have hcp : wr.cell? ⟨pb, po + k, none⟩ = some (.int .i64 (Zp k)) := (hbel.cell hpb).trans hpcell
              clear hpcell
              go_wp2_with fail
              all_goals go_meet
              all_goals exact ⟨rfl, by rw [hnP.out hkp]⟩
            · go_wp2_with fail
              all_goals go_meet
              all_goals exact ⟨rfl, by rw [hnN.out hkp]⟩
          case rest =>
            obtain ⟨rfl, rfl⟩ := hcut
            go_upto_region 17 with (first
              | (go_at_call 8; refine (peek_is _ b ao c L p n hI M (by rw [HD.out]; exact HM.out) M.length rfl).mono ?_; rintro e w3 ⟨xo, xc, rfl, hx, hg3, hxf⟩; have hI3 := hI.kept0 hg3; have hR3 := hR.kept0 hg3; have B3 := hbel.grown hg3 hbel.size (by simp)))
            go_cut [70] (fun s70 wx => s70 = .bool false ∧ w3.grownBy wx none)
            case first =>
              have hcx := conv_is hx.drew M.length rfl (str M) rfl
              have hR3' := hR3.kept0 (drew_grown _)
              go_region_with (first
                | (go_at_call 9; refine (refPeek_at _ r gr ro rc D p n hR3' M HM.out).mono ?_; rintro e w4 ⟨yo, yc, rfl, hy, hg4, hyf⟩; have hcy := conv_is hy M.length rfl (str M) rfl; have hcx4 := conv_is (hx.kept0 (grownBy_of_drew hg4)) M.length rfl (str M) rfl))
              all_goals (go_wp2_with fail; go_meet; exact ⟨rfl, grownBy_of_drew hg4⟩)
            case rest =>
              obtain ⟨rfl, hg4⟩ := hcut
              have hI4 := hI3.kept0 hg4
              have hR4 := hR3.kept0 hg4
              have hx4 := hx.kept0 hg4
              have B4 := B3.grown hg4 B3.size (by simp)
              have hlo := hbel.size
              have hxf' : Hid (∀ g, blk xo = some g → wr.heap.size ≤ g) := hxf
              obtain ⟨H, hH⟩ : ∃ H, H = wr.heap.size := ⟨_, rfl⟩
              rw [← hH] at hbB hrB hgB haB hlo hxf'
              clear hI3 hR3 hx B3 hg3 hg4 hI hR hcw hbel hxf hH
              go_wp2
              go_loopw [14] (fun i wq => ∃ (j : Nat) (X : List UInt8), i = .int .i64 j ∧ j ≤ M.length ∧ Hid (X.length = M.length) ∧ Own wq xo xc X ∧ wc.grownBy wq (blk xo)) (fun i _ => M.length - (intOf i).toNat)
              case atStart => exact ⟨0, M, rfl, by omega, rfl, hx4, grownBy_refl _ _⟩
              case round =>
                obtain ⟨j, X, rfl, hj, hX, hoX, hgX⟩ := hrel
                by_cases hjl : j < M.length
                · have hjX : j < X.length := by rw [hX.out]; exact hjl
                  obtain ⟨gx, rfl⟩ := own_some hoX (by omega)
                  have hc := hoX.cell j hjX
                  have hf := hoX.free j
                  have hu : (X[j].toNat : Int) ≤ 255 := by have := X[j].toNat_lt; omega
                  obtain ⟨u, hu2⟩ : ∃ u : Nat, Hid (X[j].toNat = u) := ⟨X[j].toNat, (rfl : X[j].toNat = X[j].toNat)⟩
                  rw [hu2.out] at hc hu
                  go_wp2
                  obtain ⟨M', hM', ho'⟩ := hoX.put j hjX (((u : Int) + 1) % 256) (by omega) (by omega)
                  go_roundw
                  case rel => exact ⟨j + 1, M', by go_num, by omega, by show M'.length = _; rw [hM', hX.out], ho', grownBy_trans hgX (grownBy_setCell _ ⟨gx, j, none⟩ _)⟩
                  case measure => simp [intOf]; omega
                · have hI5 := hI4.newer hgX hbB haB.out hxf'.out
                  have hR5 := hR4.newer hgX hrB hgB hxf'.out
                  have B5 := B4.grown hgX B4.size (by intro y e; have := hxf'.out y e; omega)
                  clear hI4 hR4 B4 hgX hoX hx4 hX
                  have k0 : (0 : Int) ≤ (k : Int) := by omega
                  have k1 : (k : Int) < (len2 : Int) := by omega
                  go_upto_region 23 with fail
                  go_cut [114] (fun s114 wx => s114 = .bool false ∧ ∃ (q : Nat) (ro' : Option Addr) (rc' : Nat), InAt wx b ao c L q ∧ RefIn wx r gr ro' rc' (L.drop q) q ∧ Below w.heap.size w wx)
                  case first =>
                    have hI5' := hI5.kept0 (drew_grown _)
                    have hR5' := hR5.kept0 (drew_grown _)
                    have B5' := B5.drew
                    have hs5 := (B5'.cell (p := ⟨sb, so + k, none⟩) hsb).trans hcell
                    rcases (show (0 ≤ Zs k ∧ Zs k ≤ (L.length : Int) - p) ∨ (Zs k < 0 ∨ (L.length : Int) - p < Zs k) by omega) with ⟨hn0, hn1⟩ | hno
                    · obtain ⟨m, hm⟩ : ∃ m : Nat, Hid (Zs k = (m : Int)) := ⟨(Zs k).toNat, by show Zs k = _; omega⟩
                      obtain ⟨q, hq⟩ : ∃ q : Nat, Hid (p + m = q) := ⟨_, rfl⟩
                      obtain ⟨D', hD'⟩ : ∃ D', Hid (D.drop m = D') := ⟨_, rfl⟩
                      have hqL : q ≤ L.length := by have := hm.out; have := hq.out; omega
                      have hmD : m ≤ D.length := by have := hm.out; have := HDl.out; omega
                      have hDq : Hid (L.drop q = D') := by show L.drop q = D'; rw [← hD'.out, ← HD.out, ← hq.out, List.drop_drop]
                      have hDl : (D'.length : Int) = (L.length : Int) - (q : Int) := by rw [← hDq.out, List.length_drop]; omega
                      clear hn0 hn1
                      refine wp_region_held_drew (S := fun w' => w'.cell? ⟨sb, so + k, none⟩ = some (.int .i64 (Zs k))) (by kernel_rfl) hs5 (fun hHeld => ?_)
                      refine wpAnyH_take (i := 0) (v := ?_) rfl (by kernel_rfl) (by kernel_rfl) (by kernel_rfl) (fun _ _ _ h => h) (Or.inl ⟨by rfl, ?_⟩) (by assumption) ?_; rotate_left
                      · (intro w hSw; (try dsimp only at hSw); go_simp; try with_reducible rfl)
                      try simp only [List.getElem_toArray, List.getElem_cons_zero, Act.put, List.setIfInBounds_toArray, List.set_cons_zero, List.set_cons_succ]
                      refine wpAnyH_take (i := 1) (v := ?_) rfl (by kernel_rfl) (by kernel_rfl) (by kernel_rfl) (fun _ _ _ h => h) (Or.inl ⟨by rfl, ?_⟩) (by assumption) ?_; rotate_left
                      · (intro w hSw; (try dsimp only at hSw); go_simp; try with_reducible rfl)
                      try simp only [List.getElem_toArray, List.getElem_cons_zero, List.getElem_cons_succ, Act.put, List.setIfInBounds_toArray, List.set_cons_zero, List.set_cons_succ]
                      refine wpAnyH_take (i := 2) (v := ?_) rfl (by kernel_rfl) (by kernel_rfl) (by kernel_rfl) (fun _ _ _ h => h) (Or.inl ⟨by rfl, ?_⟩) (by assumption) ?_; rotate_left
                      · (intro w hSw; (try dsimp only at hSw); go_simp; try with_reducible rfl)
                      try simp only [List.getElem_toArray, List.getElem_cons_zero, List.getElem_cons_succ, Act.put, List.setIfInBounds_toArray, List.set_cons_zero, List.set_cons_succ]
                      refine wpAnyH_take (i := 3) (v := ?_) rfl (by kernel_rfl) (by kernel_rfl) (by kernel_rfl) (fun _ _ _ h => h) (Or.inl ⟨by rfl, ?_⟩) (by assumption) ?_; rotate_left
                      · (intro w hSw; (try dsimp only at hSw); go_simp; try with_reducible rfl)
                      try simp only [List.getElem_toArray, List.getElem_cons_zero, List.getElem_cons_succ, Act.put, List.setIfInBounds_toArray, List.set_cons_zero, List.set_cons_succ]
                      refine wpAnyH_take (i := 4) (v := ?_) rfl (by kernel_rfl) (by kernel_rfl) (by kernel_rfl) (fun _ _ _ h => h) (Or.inl ⟨by rfl, ?_⟩) (by assumption) ?_; rotate_left
                      · (intro w hSw; (try dsimp only at hSw); go_simp; try with_reducible rfl)
                      try simp only [List.getElem_toArray, List.getElem_cons_zero, List.getElem_cons_succ, Act.put, List.setIfInBounds_toArray, List.set_cons_zero, List.set_cons_succ]
                      refine wpAnyH_take (i := 6) (v := ?_) rfl (by kernel_rfl) (by kernel_rfl) (by kernel_rfl) (fun _ _ _ h => h) (Or.inl ⟨by rfl, ?_⟩) (by assumption) ?_; rotate_left
                      · (intro w hSw; (try dsimp only at hSw); go_simp; try with_reducible rfl)
                      try simp only [List.getElem_toArray, List.getElem_cons_zero, List.getElem_cons_succ, Act.put, List.setIfInBounds_toArray, List.set_cons_zero, List.set_cons_succ]
                      refine wpAnyH_take (i := 7) (v := ?_) rfl (by kernel_rfl) (by kernel_rfl) (by kernel_rfl) (fun _ _ _ h => h) (Or.inl ⟨by rfl, ?_⟩) (by assumption) ?_; rotate_left
                      · (intro w hSw; (try dsimp only at hSw); go_simp; try with_reducible rfl)
                      try simp only [List.getElem_toArray, List.getElem_cons_zero, List.getElem_cons_succ, Act.put, List.setIfInBounds_toArray, List.set_cons_zero, List.set_cons_succ]
                      refine wpAnyH_take (i := 8) (v := ?_) rfl (by kernel_rfl) (by kernel_rfl) (by kernel_rfl) (fun _ _ _ h => h) (Or.inl ⟨by rfl, ?_⟩) (by assumption) ?_; rotate_left
                      · (intro w hSw; (try dsimp only at hSw); go_simp; try with_reducible rfl)
                      try simp only [List.getElem_toArray, List.getElem_cons_zero, List.getElem_cons_succ, Act.put, List.setIfInBounds_toArray, List.set_cons_zero, List.set_cons_succ]
                      refine wpAnyH_take (i := 9) (v := ?_) rfl (by kernel_rfl) (by kernel_rfl) (by kernel_rfl) (fun _ _ _ h => h) (Or.inl ⟨by rfl, ?_⟩) (by assumption) ?_; rotate_left
                      · (intro w hSw; (try dsimp only at hSw); go_simp; try with_reducible rfl)
                      try simp only [List.getElem_toArray, List.getElem_cons_zero, List.getElem_cons_succ, Act.put, List.setIfInBounds_toArray, List.set_cons_zero, List.set_cons_succ]
                      refine wpAnyH_take (i := 10) (v := ?_) rfl (by kernel_rfl) (by kernel_rfl) (by kernel_rfl) (fun _ _ _ h => h) (Or.inl ⟨by rfl, ?_⟩) (by assumption) ?_; rotate_left
                      · (intro w hSw; (try dsimp only at hSw); go_simp; try with_reducible rfl)
                      try simp only [List.getElem_toArray, List.getElem_cons_zero, List.getElem_cons_succ, Act.put, List.setIfInBounds_toArray, List.set_cons_zero, List.set_cons_succ]
                      refine wpAnyH_ready (rs := [5]) (by kernel_rfl) (by simp) ?_
                      refine AllReadyH.cons rfl (fun K hK => ?_) AllReadyH.nil
                      go_simp
                      refine (skip_to _ b ao c L p (Zs k) m q hm.out hq.out hI5' hqL).mono ?_; rintro e w6 ⟨rfl, hI6, hg6⟩; have hR6 := hR5'.aside hg6 hI5'.blk (by decide) (by decide); have B6 := B5'.grown hg6 B5'.size (by intro y e; simp at e; omega); have hs6 := (B6.cell (p := ⟨sb, so + k, none⟩) hsb).trans hcell; try dsimp only
                      refine hK.out _ _ hs6 (fun hHeld => ?_)
                      clear hK K
                      try simp only [List.getElem_toArray, List.getElem_cons_zero, List.getElem_cons_succ, Act.put, List.setIfInBounds_toArray, List.set_cons_zero, List.set_cons_succ]
                      refine wpAnyH_ready (rs := [11]) (by kernel_rfl) (by simp) ?_
                      refine AllReadyH.cons rfl (fun K hK => ?_) AllReadyH.nil
                      go_simp
                      refine (refSkip_to _ r gr ro rc D p (Zs k) m q D' hm.out hq.out hD'.out hR6 hmD).mono ?_; rintro e w7 ⟨ro', rc', rfl, hR7, hg7⟩; have hI7 := hI6.aside hg7 hR6.blk (by decide) (by decide); have B7 := B6.grown hg7 B6.size (by intro y e; simp at e; omega); have hs7 := (B7.cell (p := ⟨sb, so + k, none⟩) hsb).trans hcell; try dsimp only
                      refine hK.out _ _ hs7 (fun hHeld => ?_)
                      clear hK K
                      try simp only [List.getElem_toArray, List.getElem_cons_zero, List.getElem_cons_succ, Act.put, List.setIfInBounds_toArray, List.set_cons_zero, List.set_cons_succ]
                      refine wpAnyH_mono (T := fun w' => w'.cell? ⟨sb, so + k, none⟩ = some (.int .i64 (Zs k)) ∧ w'.cell? ⟨r, 0, none⟩ = some (.slice ro' D'.length rc') ∧ w'.cell? ⟨r, 1, none⟩ = some (.int .i64 (q : Int))) (fun _ h => h.1) _ _ _ _ ?_
                      have hHeld2 : (fun w' => w'.cell? ⟨sb, so + k, none⟩ = some (.int .i64 (Zs k)) ∧ w'.cell? ⟨r, 0, none⟩ = some (.slice ro' D'.length rc') ∧ w'.cell? ⟨r, 1, none⟩ = some (.int .i64 (q : Int))) w7 := ⟨hs7, hR7.c0, hR7.c1⟩
                      refine wpAnyH_take (i := 12) (v := ?_) rfl (by kernel_rfl) (by kernel_rfl) (by kernel_rfl) (fun _ _ _ h => h) (Or.inl ⟨by rfl, ?_⟩) (by assumption) ?_; rotate_left
                      · (intro w hSw; (try dsimp only at hSw); go_simp; try with_reducible rfl)
                      try simp only [List.getElem_toArray, List.getElem_cons_zero, List.getElem_cons_succ, Act.put, List.setIfInBounds_toArray, List.set_cons_zero, List.set_cons_succ]
                      refine wpAnyH_take (i := 13) (v := ?_) rfl (by kernel_rfl) (by kernel_rfl) (by kernel_rfl) (fun _ _ _ h => h) (Or.inl ⟨by rfl, ?_⟩) (by assumption) ?_; rotate_left
                      · (intro w hSw; (try dsimp only at hSw); go_simp; try with_reducible rfl)
                      try simp only [List.getElem_toArray, List.getElem_cons_zero, List.getElem_cons_succ, Act.put, List.setIfInBounds_toArray, List.set_cons_zero, List.set_cons_succ]
                      refine wpAnyH_take (i := 14) (v := ?_) rfl (by kernel_rfl) (by kernel_rfl) (by kernel_rfl) (fun _ _ _ h => h) (Or.inl ⟨by rfl, ?_⟩) (by assumption) ?_; rotate_left
                      · (intro w hSw; (try dsimp only at hSw); go_simp; try with_reducible rfl)
                      try simp only [List.getElem_toArray, List.getElem_cons_zero, List.getElem_cons_succ, Act.put, List.setIfInBounds_toArray, List.set_cons_zero, List.set_cons_succ]
                      refine wpAnyH_take (i := 16) (v := ?_) rfl (by kernel_rfl) (by kernel_rfl) (by kernel_rfl) (fun _ _ _ h => h) (Or.inl ⟨by rfl, ?_⟩) (by assumption) ?_; rotate_left
                      · (intro w hSw; (try dsimp only at hSw); go_simp; try with_reducible rfl)
                      try simp only [List.getElem_toArray, List.getElem_cons_zero, List.getElem_cons_succ, Act.put, List.setIfInBounds_toArray, List.set_cons_zero, List.set_cons_succ]
                      refine wpAnyH_take (i := 17) (v := ?_) rfl (by kernel_rfl) (by kernel_rfl) (by kernel_rfl) (fun _ _ _ h => h) (Or.inl ⟨by rfl, ?_⟩) (by assumption) ?_; rotate_left
                      · (intro w hSw; (try dsimp only at hSw); go_simp; try with_reducible rfl)
                      try simp only [List.getElem_toArray, List.getElem_cons_zero, List.getElem_cons_succ, Act.put, List.setIfInBounds_toArray, List.set_cons_zero, List.set_cons_succ]
                      refine wpAnyH_take (i := 18) (v := ?_) rfl (by kernel_rfl) (by kernel_rfl) (by kernel_rfl) (fun _ _ _ h => h) (Or.inl ⟨by rfl, ?_⟩) (by assumption) ?_; rotate_left
                      · (intro w hSw; (try dsimp only at hSw); go_simp; try with_reducible rfl)
                      try simp only [List.getElem_toArray, List.getElem_cons_zero, List.getElem_cons_succ, Act.put, List.setIfInBounds_toArray, List.set_cons_zero, List.set_cons_succ]
                      refine wpAnyH_take (i := 19) (v := ?_) rfl (by kernel_rfl) (by kernel_rfl) (by kernel_rfl) (fun _ _ _ h => h) (Or.inl ⟨by rfl, ?_⟩) (by assumption) ?_; rotate_left
                      · (intro w hSw; (try dsimp only at hSw); go_simp; try with_reducible rfl)
                      try simp only [List.getElem_toArray, List.getElem_cons_zero, List.getElem_cons_succ, Act.put, List.setIfInBounds_toArray, List.set_cons_zero, List.set_cons_succ]
                      refine wpAnyH_take (i := 20) (v := ?_) rfl (by kernel_rfl) (by kernel_rfl) (by kernel_rfl) (fun _ _ _ h => h) (Or.inl ⟨by rfl, ?_⟩) (by assumption) ?_; rotate_left
                      · (intro w hSw; (try dsimp only at hSw); go_simp; try with_reducible rfl)
                      try simp only [List.getElem_toArray, List.getElem_cons_zero, List.getElem_cons_succ, Act.put, List.setIfInBounds_toArray, List.set_cons_zero, List.set_cons_succ]
                      refine wpAnyH_ready (rs := [15]) (by kernel_rfl) (by simp) ?_
                      refine AllReadyH.cons rfl (fun K hK => ?_) AllReadyH.nil
                      go_simp
                      refine (left_any w7 b ao c L q hI7).mono ?_; rintro e w' ⟨rfl, hw⟩; subst w'; try dsimp only
                      refine hK.out _ _ hHeld2 (fun hHeld => ?_)
                      clear hK K
                      try simp only [List.getElem_toArray, List.getElem_cons_zero, List.getElem_cons_succ, Act.put, List.setIfInBounds_toArray, List.set_cons_zero, List.set_cons_succ]
                      refine wpAnyH_take (i := 21) (v := ?_) rfl (by kernel_rfl) (by kernel_rfl) (by kernel_rfl) (fun _ _ _ h => h) (Or.inl ⟨by rfl, ?_⟩) (by assumption) ?_; rotate_left
                      · (intro w hSw; (try dsimp only at hSw); go_simp; try with_reducible rfl)
                      try simp only [List.getElem_toArray, List.getElem_cons_zero, List.getElem_cons_succ, Act.put, List.setIfInBounds_toArray, List.set_cons_zero, List.set_cons_succ]
                      refine wpAnyH_take (i := 22) (v := ?_) rfl (by kernel_rfl) (by kernel_rfl) (by kernel_rfl) (fun _ _ _ h => h) (Or.inl ⟨by rfl, ?_⟩) (by assumption) ?_; rotate_left
                      · (intro w hSw; (try dsimp only at hSw); go_simp; try with_reducible rfl)
                      try simp only [List.getElem_toArray, List.getElem_cons_zero, List.getElem_cons_succ, Act.put, List.setIfInBounds_toArray, List.set_cons_zero, List.set_cons_succ]
                      refine wpAnyH_take (i := 23) (v := ?_) rfl (by kernel_rfl) (by kernel_rfl) (by kernel_rfl) (fun _ _ _ h => h) (Or.inl ⟨by rfl, ?_⟩) (by assumption) ?_; rotate_left
                      · (intro w hSw; (try dsimp only at hSw); go_simp; try with_reducible rfl)
                      try simp only [List.getElem_toArray, List.getElem_cons_zero, List.getElem_cons_succ, Act.put, List.setIfInBounds_toArray, List.set_cons_zero, List.set_cons_succ]
                      refine wpAnyH_take (i := 24) (v := ?_) rfl (by kernel_rfl) (by kernel_rfl) (by kernel_rfl) (fun _ _ _ h => h) (Or.inl ⟨by rfl, ?_⟩) (by assumption) ?_; rotate_left
                      · (intro w hSw; (try dsimp only at hSw); go_simp; try with_reducible rfl)
                      try simp only [List.getElem_toArray, List.getElem_cons_zero, List.getElem_cons_succ, Act.put, List.setIfInBounds_toArray, List.set_cons_zero, List.set_cons_succ]
                      refine wpAnyH_take (i := 26) (v := ?_) rfl (by kernel_rfl) (by kernel_rfl) (by kernel_rfl) (fun _ _ _ h => h) (Or.inl ⟨by rfl, ?_⟩) (by assumption) ?_; rotate_left
                      · (intro w hSw; (try dsimp only at hSw); go_simp; try with_reducible rfl)
                      try simp only [List.getElem_toArray, List.getElem_cons_zero, List.getElem_cons_succ, Act.put, List.setIfInBounds_toArray, List.set_cons_zero, List.set_cons_succ]
                      refine wpAnyH_take (i := 27) (v := ?_) rfl (by kernel_rfl) (by kernel_rfl) (by kernel_rfl) (fun _ _ _ h => h) (Or.inl ⟨by rfl, ?_⟩) (by assumption) ?_; rotate_left
                      · (intro w hSw; (try dsimp only at hSw); go_simp; try with_reducible rfl)
                      try simp only [List.getElem_toArray, List.getElem_cons_zero, List.getElem_cons_succ, Act.put, List.setIfInBounds_toArray, List.set_cons_zero, List.set_cons_succ]
                      refine wpAnyH_take (i := 28) (v := ?_) rfl (by kernel_rfl) (by kernel_rfl) (by kernel_rfl) (fun _ _ _ h => h) (Or.inl ⟨by rfl, ?_⟩) (by assumption) ?_; rotate_left
                      · (intro w hSw; (try dsimp only at hSw); go_simp; try with_reducible rfl)
                      try simp only [List.getElem_toArray, List.getElem_cons_zero, List.getElem_cons_succ, Act.put, List.setIfInBounds_toArray, List.set_cons_zero, List.set_cons_succ]
                      refine wpAnyH_take (i := 29) (v := ?_) rfl (by kernel_rfl) (by kernel_rfl) (by kernel_rfl) (fun _ _ _ h => h) (Or.inl ⟨by rfl, ?_⟩) (by assumption) ?_; rotate_left
                      · (intro w hSw; (try dsimp only at hSw); go_simp; try with_reducible rfl)
                      try simp only [List.getElem_toArray, List.getElem_cons_zero, List.getElem_cons_succ, Act.put, List.setIfInBounds_toArray, List.set_cons_zero, List.set_cons_succ]
                      refine wpAnyH_ready (rs := [25]) (by kernel_rfl) (by simp) ?_
                      refine AllReadyH.cons rfl (fun K hK => ?_) AllReadyH.nil
                      go_simp
                      refine (at_any w7 b ao c L q hI7).mono ?_; rintro e w' ⟨rfl, hw⟩; subst w'; try dsimp only
                      refine hK.out _ _ hHeld2 (fun hHeld => ?_)
                      clear hK K
                      try simp only [List.getElem_toArray, List.getElem_cons_zero, List.getElem_cons_succ, Act.put, List.setIfInBounds_toArray, List.set_cons_zero, List.set_cons_succ]
                      refine wpAnyH_take (i := 30) (v := ?_) rfl (by kernel_rfl) (by kernel_rfl) (by kernel_rfl) (fun _ _ _ h => h) (Or.inl ⟨by rfl, ?_⟩) (by assumption) ?_; rotate_left
                      · (intro w hSw; (try dsimp only at hSw); go_simp; try with_reducible rfl)
                      try simp only [List.getElem_toArray, List.getElem_cons_zero, List.getElem_cons_succ, Act.put, List.setIfInBounds_toArray, List.set_cons_zero, List.set_cons_succ]
                      refine wpAnyH_take (i := 31) (v := ?_) rfl (by kernel_rfl) (by kernel_rfl) (by kernel_rfl) (fun _ _ _ h => h) (Or.inl ⟨by rfl, ?_⟩) (by assumption) ?_; rotate_left
                      · (intro w hSw; (try dsimp only at hSw); go_simp; try with_reducible rfl)
                      try simp only [List.getElem_toArray, List.getElem_cons_zero, List.getElem_cons_succ, Act.put, List.setIfInBounds_toArray, List.set_cons_zero, List.set_cons_succ]
                      refine wpAnyH_done (by kernel_rfl) ?_ _
                      all_goals (go_wp2_with fail; go_meet; exact ⟨rfl, q, ro', rc', hI7, by rw [hDq.out]; exact hR7, B7⟩)
                    · have hno' : Zs k < 0 ∨ (D.length : Int) < Zs k := by have := HDl.out; omega
                      have HN : Hid (Zs k < 0 ∨ (L.length : Int) - p < Zs k) := hno
                      have HN' : Hid (Zs k < 0 ∨ (D.length : Int) < Zs k) := hno'
                      have hDl : (D.length : Int) = (L.length : Int) - (p : Int) := by have := HDl.out; omega
                      have e0 := hR5'.c0
                      have e1 := hR5'.c1
                      clear hno hno'
                      go_region_held3 (fun w' => w'.cell? ⟨sb, so + k, none⟩ = some (.int .i64 (Zs k)) ∧ w'.cell? ⟨r, 0, none⟩ = some (.slice ro D.length rc) ∧ w'.cell? ⟨r, 1, none⟩ = some (.int .i64 (p : Int))) (go_keep)
                        (first
                        | (go_at_call 10; refine (skip_no _ b ao c L p (Zs k) hI5' HN.out).mono ?_; rintro e w' ⟨rfl, hw⟩; subst w')
                        | (go_at_call 11; refine (refSkip_no _ r gr ro rc D p (Zs k) hR5' HN'.out).mono ?_; rintro e w' ⟨rfl, hw⟩; subst w')
                        | (go_at_call 12; refine (left_any _ b ao c L p hI5').mono ?_; rintro e w' ⟨rfl, hw⟩; subst w')
                        | (go_at_call 13; refine (at_any _ b ao c L p hI5').mono ?_; rintro e w' ⟨rfl, hw⟩; subst w'))
                      all_goals (go_wp2_with fail; go_meet; exact ⟨rfl, p, ro, rc, hI5', by rw [HD.out]; exact hR5', B5'⟩)
                  case rest =>
                    obtain ⟨rfl, q, ro', rc', hI6, hR6, B6⟩ := hcut
                    go_wp2
                    go_roundw
                    case rel => exact ⟨k + 1, q, ro', rc', by go_num, by omega, by omega, hI6, hR6, B6⟩
                    case measure => simp [intOf]; omega
        · have p0 : (0 : Int) ≤ (L.length : Int) := by omega
          obtain ⟨D, HD⟩ : ∃ D, Hid (L.drop p = D) := ⟨_, rfl⟩
          have HD2 : Hid ((L.drop p).take L.length = D) := by show (L.drop p).take L.length = D; rw [List.take_of_length_le (by simp), HD.out]
          rw [HD.out] at hR
          have hI' := hI.kept0 (drew_grown wr)
          have hR' := hR.kept0 (drew_grown wr)
          have e0 := hR'.c0
          have hcr := conv_bytes hR'.bytes rc D.length rfl
          rcases (show ¬ k < len2 ∨ (k < len2 ∧ ¬ k < 60) by omega) with hno | ⟨hyes, hno⟩
          all_goals
            go_wp2_with fail
            refine wp_region_held_drew (S := fun w' => w'.cell? ⟨r, 0, none⟩ = some (.slice ro D.length rc) ∧ (convert 22 9 (.slice ro D.length rc)).run Try.prog w' = .ok (.string (str D)) w') (by kernel_rfl) ⟨e0, hcr⟩ (fun hHeld => ?_)
            refine wpAnyH_take (i := 0) (v := ?_) rfl (by kernel_rfl) (by kernel_rfl) (by kernel_rfl) (fun _ _ _ h => h) (Or.inl ⟨by rfl, ?_⟩) (by assumption) ?_; rotate_left
            · (intro w hSw; (try dsimp only at hSw); go_simp; try with_reducible rfl)
            try simp only [List.getElem_toArray, List.getElem_cons_zero, Act.put, List.setIfInBounds_toArray, List.set_cons_zero, List.set_cons_succ]
            refine wpAnyH_take (i := 1) (v := ?_) rfl (by kernel_rfl) (by kernel_rfl) (by kernel_rfl) (fun _ _ _ h => h) (Or.inl ⟨by rfl, ?_⟩) (by assumption) ?_; rotate_left
            · (intro w hSw; (try dsimp only at hSw); go_simp; try with_reducible rfl)
            try simp only [List.getElem_toArray, List.getElem_cons_zero, List.getElem_cons_succ, Act.put, List.setIfInBounds_toArray, List.set_cons_zero, List.set_cons_succ]
            refine wpAnyH_take (i := 2) (v := ?_) rfl (by kernel_rfl) (by kernel_rfl) (by kernel_rfl) (fun _ _ _ h => h) (Or.inl ⟨by rfl, ?_⟩) (by assumption) ?_; rotate_left
            · (intro w hSw; (try dsimp only at hSw); go_simp; try with_reducible rfl)
            try simp only [List.getElem_toArray, List.getElem_cons_zero, List.getElem_cons_succ, Act.put, List.setIfInBounds_toArray, List.set_cons_zero, List.set_cons_succ]
            refine wpAnyH_take (i := 5) (v := ?_) rfl (by kernel_rfl) (by kernel_rfl) (by kernel_rfl) (fun _ _ _ h => h) (Or.inl ⟨by rfl, ?_⟩) (by assumption) ?_; rotate_left
            · (intro w hSw; (try dsimp only at hSw); go_simp; try with_reducible rfl)
            try simp only [List.getElem_toArray, List.getElem_cons_zero, List.getElem_cons_succ, Act.put, List.setIfInBounds_toArray, List.set_cons_zero, List.set_cons_succ]
            refine wpAnyH_take (i := 6) (v := ?_) rfl (by kernel_rfl) (by kernel_rfl) (by kernel_rfl) (fun _ _ _ h => h) (Or.inl ⟨by rfl, ?_⟩) (by assumption) ?_; rotate_left
            · (intro w hSw; (try dsimp only at hSw); go_simp; try with_reducible rfl)
            try simp only [List.getElem_toArray, List.getElem_cons_zero, List.getElem_cons_succ, Act.put, List.setIfInBounds_toArray, List.set_cons_zero, List.set_cons_succ]
            refine wpAnyH_take (i := 7) (v := ?_) rfl (by kernel_rfl) (by kernel_rfl) (by kernel_rfl) (fun _ _ _ h => h) (Or.inl ⟨by rfl, ?_⟩) (by assumption) ?_; rotate_left
            · (intro w hSw; (try dsimp only at hSw); go_simp; try with_reducible rfl)
            try simp only [List.getElem_toArray, List.getElem_cons_zero, List.getElem_cons_succ, Act.put, List.setIfInBounds_toArray, List.set_cons_zero, List.set_cons_succ]
            refine wpAnyH_take (i := 8) (v := ?_) rfl (by kernel_rfl) (by kernel_rfl) (by kernel_rfl) (fun _ _ _ h => h) (Or.inl ⟨by rfl, ?_⟩) (by assumption) ?_; rotate_left
            · (intro w hSw; (try dsimp only at hSw); go_simp; try with_reducible rfl)
            try simp only [List.getElem_toArray, List.getElem_cons_zero, List.getElem_cons_succ, Act.put, List.setIfInBounds_toArray, List.set_cons_zero, List.set_cons_succ]
            refine wpAnyH_take (i := 9) (v := ?_) rfl (by kernel_rfl) (by kernel_rfl) (by kernel_rfl) (fun _ _ _ h => h) (Or.inl ⟨by rfl, ?_⟩) (by assumption) ?_; rotate_left
            · (intro w hSw; (try dsimp only at hSw); go_simp; try with_reducible rfl)
            try simp only [List.getElem_toArray, List.getElem_cons_zero, List.getElem_cons_succ, Act.put, List.setIfInBounds_toArray, List.set_cons_zero, List.set_cons_succ]
            refine wpAnyH_ready (rs := [3]) (by kernel_rfl) (by simp) ?_
            refine AllReadyH.cons rfl (fun K hK => ?_) AllReadyH.nil
            go_simp
            refine (peek_at _ b ao c L p _ L.length (by omega) hI' D HD2.out).mono ?_; rintro e w7 ⟨yo, yc, rfl, hy, hg7, hyf⟩; have hcv := conv_is hy D.length rfl (str D) rfl; have hR7 := hR'.kept0 hg7; have hcr7 := conv_bytes hR7.bytes rc D.length rfl; have e7 := hR7.c0; have B7 := hbel.grown (grownBy_of_drew hg7) hbel.size (by simp); try dsimp only
            refine hK.out _ _ ⟨e7, hcr7⟩ (fun hHeld => ?_)
            clear hK K
            try simp only [List.getElem_toArray, List.getElem_cons_zero, List.getElem_cons_succ, Act.put, List.setIfInBounds_toArray, List.set_cons_zero, List.set_cons_succ]
            refine wpAnyH_mono (T := fun w' => (w'.cell? ⟨r, 0, none⟩ = some (.slice ro D.length rc) ∧ (convert 22 9 (.slice ro D.length rc)).run Try.prog w' = .ok (.string (str D)) w') ∧ (convert 22 9 (.slice yo D.length yc)).run Try.prog w' = .ok (.string (str D)) w') (fun _ h => h.1) _ _ _ _ ?_
            have hHeld2 : (fun w' => (w'.cell? ⟨r, 0, none⟩ = some (.slice ro D.length rc) ∧ (convert 22 9 (.slice ro D.length rc)).run Try.prog w' = .ok (.string (str D)) w') ∧ (convert 22 9 (.slice yo D.length yc)).run Try.prog w' = .ok (.string (str D)) w') w7 := ⟨⟨e7, hcr7⟩, hcv⟩
            refine wpAnyH_take (i := 4) (v := ?_) rfl (by kernel_rfl) (by kernel_rfl) (by kernel_rfl) (fun _ _ _ h => h) (Or.inl ⟨by rfl, ?_⟩) (by assumption) ?_; rotate_left
            · (intro w hSw; (try dsimp only at hSw); go_simp; try with_reducible rfl)
            try simp only [List.getElem_toArray, List.getElem_cons_zero, List.getElem_cons_succ, Act.put, List.setIfInBounds_toArray, List.set_cons_zero, List.set_cons_succ]
            refine wpAnyH_take (i := 10) (v := ?_) rfl (by kernel_rfl) (by kernel_rfl) (by kernel_rfl) (fun _ _ _ h => h) (Or.inl ⟨by rfl, ?_⟩) (by assumption) ?_; rotate_left
            · (intro w hSw; (try dsimp only at hSw); go_simp; try with_reducible rfl)
            try simp only [List.getElem_toArray, List.getElem_cons_zero, List.getElem_cons_succ, Act.put, List.setIfInBounds_toArray, List.set_cons_zero, List.set_cons_succ]
            refine wpAnyH_take (i := 11) (v := ?_) rfl (by kernel_rfl) (by kernel_rfl) (by kernel_rfl) (fun _ _ _ h => h) (Or.inl ⟨by rfl, ?_⟩) (by assumption) ?_; rotate_left
            · (intro w hSw; (try dsimp only at hSw); go_simp; try with_reducible rfl)
            try simp only [List.getElem_toArray, List.getElem_cons_zero, List.getElem_cons_succ, Act.put, List.setIfInBounds_toArray, List.set_cons_zero, List.set_cons_succ]
            refine wpAnyH_done (by kernel_rfl) ?_ _
            go_wp2
            go_ret
            exact ⟨rfl, B7⟩

set_option maxRecDepth 100000 in
theorem lifted (os : Os) (started : os.Started) (H : Type) (enc : TypeId × Value → H) :
    ReturnsInHanded {} Try.checked os 3 .any (Rows.flowInSpec.pre6 enc Try.prog Try.f3 Rows.flowInRow.domain false) (Rows.flowInSpec.post enc Try.prog Try.f3 false true false false) := by
  refine returnsInHanded_of_change_sized (C := Try.checked) own started (by kernel_rfl) Try.func3
    (ChangeSpec.witness6 (enc := enc) (C := Try.checked) false ⟨#[], #[.slice none 0 0, .slice none 0 0, .slice none 0 0], []⟩ 8 (by kernel_rfl) (by kernel_rfl) (by kernel_rfl) (by kernel_rfl)) ?_
  intro W base args ds gs before hval0 hW hcnd hsz0 _
  have hsz : (DataW.weightsEach Try.prog (Try.f3.params.toList ++ Rows.flowInSpec.plain.varTypes Try.prog) (ds ++ gs)).all (· ≤ reachBytes) = true := hsz0
  have hval : ∀ (j : Nat) t v, Try.f3.params[j]? = some t → args[j]? = some v → Value.okWide Try.prog W .any base t v := hval0
  have hW' := hW
  obtain ⟨p, q, hA0, hV, rfl, hfz, hnd⟩ := hW
  have hA : DataW.TrodAll enc Try.prog W 0 (fun _ => true) true Try.f3.params.toList args.toList ds p := hA0
  rw [Try.params3] at hA hval hsz
  obtain ⟨v0, vs0, d0, ds0, p0, q0, hargs, rfl, rfl, h0, r0⟩ := trodAll_cons hA
  obtain ⟨v1, vs1, d1, ds1, p1, q1, rfl, rfl, rfl, h1, r1⟩ := trodAll_cons r0
  obtain ⟨v2, vs2, d2, ds2, p2, q2, rfl, rfl, rfl, h2, r2⟩ := trodAll_cons r1
  obtain ⟨rfl, rfl, rfl⟩ := trodAll_nil r2
  obtain rfl : args = #[v0, v1, v2] := by cases args; simp_all
  obtain ⟨rfl, rfl⟩ := trodVars_none hV
  obtain ⟨a0, len0, cap0, rfl⟩ := okWide_slice Try.underlying22 (hval 0 22 v0 rfl rfl)
  have k0 := h0
  have lt0 : ∀ x ∈ p0, x.block < W.heap.size := by obtain ⟨m, hm⟩ := k0; exact DataW.trod_lt m _ _ _ hm
  obtain ⟨z0, w0⟩ : ∃ zs, IsRow .u8 W a0 len0 cap0 zs := by
    obtain ⟨fuel, hf⟩ := h0
    rcases open_ints Try.underlying22 Try.underlying5 (by kernel_rfl) hf with ⟨hcs, _⟩ | ⟨x, l, c, zs, hcs, _, hl, hm, hz, hx, hcell, hwz⟩
    · simp [Value.cells] at hcs
      obtain ⟨rfl, rfl, rfl⟩ := hcs
      exact ⟨[], .inl ⟨rfl, rfl, rfl, rfl⟩⟩
    · simp [Value.cells] at hcs
      obtain ⟨rfl, rfl, rfl⟩ := hcs
      simp only [Prod.mk.injEq] at hx
      have hr := sized_slice hsz (j := 0) (t := 22) (e := 5) rfl (by rw [hx.1]; rfl) Try.underlying22
      rw [bytes5] at hr
      simp only [lits, List.length_map, List.length_take, List.length_drop, reachBytes] at hr
      simp only [if_true] at hz
      exact ⟨zs, .inr ⟨_, rfl, hl, by omega, hz, hcell, hwz⟩⟩
  obtain ⟨a1, len1, cap1, rfl⟩ := okWide_slice Try.underlying23 (hval 1 23 v1 rfl rfl)
  have k1 := h1
  have lt1 : ∀ x ∈ p1, x.block < W.heap.size := by obtain ⟨m, hm⟩ := k1; exact DataW.trod_lt m _ _ _ hm
  obtain ⟨z1, w1⟩ : ∃ zs, IsRow .i64 W a1 len1 cap1 zs := by
    obtain ⟨fuel, hf⟩ := h1
    rcases open_ints Try.underlying23 Try.underlying3 (by kernel_rfl) hf with ⟨hcs, _⟩ | ⟨x, l, c, zs, hcs, _, hl, hm, hz, hx, hcell, hwz⟩
    · simp [Value.cells] at hcs
      obtain ⟨rfl, rfl, rfl⟩ := hcs
      exact ⟨[], .inl ⟨rfl, rfl, rfl, rfl⟩⟩
    · simp [Value.cells] at hcs
      obtain ⟨rfl, rfl, rfl⟩ := hcs
      simp only [Prod.mk.injEq] at hx
      have hr := sized_slice hsz (j := 1) (t := 23) (e := 3) rfl (by rw [hx.1]; rfl) Try.underlying23
      rw [bytes3] at hr
      simp only [lits, List.length_map, List.length_take, List.length_drop, reachBytes] at hr
      simp only [if_true] at hz
      exact ⟨zs, .inr ⟨_, rfl, hl, by omega, hz, hcell, hwz⟩⟩
  obtain ⟨a2, len2, cap2, rfl⟩ := okWide_slice Try.underlying23 (hval 2 23 v2 rfl rfl)
  have k2 := h2
  have lt2 : ∀ x ∈ p2, x.block < W.heap.size := by obtain ⟨m, hm⟩ := k2; exact DataW.trod_lt m _ _ _ hm
  obtain ⟨z2, w2⟩ : ∃ zs, IsRow .i64 W a2 len2 cap2 zs := by
    obtain ⟨fuel, hf⟩ := h2
    rcases open_ints Try.underlying23 Try.underlying3 (by kernel_rfl) hf with ⟨hcs, _⟩ | ⟨x, l, c, zs, hcs, _, hl, hm, hz, hx, hcell, hwz⟩
    · simp [Value.cells] at hcs
      obtain ⟨rfl, rfl, rfl⟩ := hcs
      exact ⟨[], .inl ⟨rfl, rfl, rfl, rfl⟩⟩
    · simp [Value.cells] at hcs
      obtain ⟨rfl, rfl, rfl⟩ := hcs
      simp only [Prod.mk.injEq] at hx
      have hr := sized_slice hsz (j := 2) (t := 23) (e := 3) rfl (by rw [hx.1]; rfl) Try.underlying23
      rw [bytes3] at hr
      simp only [lits, List.length_map, List.length_take, List.length_drop, reachBytes] at hr
      simp only [if_true] at hz
      exact ⟨zs, .inr ⟨_, rfl, hl, by omega, hz, hcell, hwz⟩⟩
  clear hA0 hval0
  refine (walk a0 len0 cap0 z0 a1 len1 cap1 z1 a2 len2 cap2 z2 W w0 w1 w2).mono fun e W' ⟨he, bel⟩ => ?_
  subst he
  exact ⟨_, rfl, _, _, _, [], _, [], hW', trodAll_mk1 (shut_bool Try.underlying4 _), (trodAll_cons_mk (Below.trod laidOut (by kernel_rfl) (of_decide_eq_true (by kernel_rfl)) k0 bel lt0) (trodAll_cons_mk (Below.trod laidOut (by kernel_rfl) (of_decide_eq_true (by kernel_rfl)) k1 bel lt1) (trodAll_cons_mk (Below.trod laidOut (by kernel_rfl) (of_decide_eq_true (by kernel_rfl)) k2 bel lt2) trodAll_mk0))), rfl, bel.frame _, fun h => by cases h⟩

theorem over : Rows.flowInRow.holds Try.pinned (OpenSpec.ofChange Rows.flowInSpec) :=
  OpenClaim.holds_of_wide 3 Try.f3 rfl rfl rfl rfl rfl rfl rfl ⟨rfl, rfl, rfl, rfl, rfl⟩ rfl rfl rfl rfl rfl (by kernel_rfl) Try.func3 (by kernel_rfl)
    (of_decide_eq_true (by kernel_rfl)) (by unfold Func.isWrapper; first | (rw [if_pos (by decide +kernel)]; kernel_rfl) | (rw [if_neg (by decide +kernel)]; exact ⟨rfl, rfl⟩))
    (fun os started H enc _ => lifted os started H enc)

theorem proved : Rows.FlowInSaid := over
end Go.Proofs.Yteollicbaahmpaa.flowIn
namespace Go.Proofs.Yteollicbaahmpaa
theorem flowIn_holds : Rows.FlowInSaid := flowIn.proved
#print axioms flowIn_holds
end Go.Proofs.Yteollicbaahmpaa
