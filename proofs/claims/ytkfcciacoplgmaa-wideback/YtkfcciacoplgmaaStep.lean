/- The step of one order: walks. -/
import Derived.Test.YtkfcciacoplgmaaPair
import Derived.Deep.RegionHeld3
import Derived.BigQuiet
namespace Go.Proofs.Ytkfcciacoplgmaa.Wd
open Go.ChangeShapes Go.WideShapes Go.ChangeAt Go.RowKit Go.Proofs.Ytkfcciacoplgmaa.Mem Go.Proofs.Ytkfcciacoplgmaa.Ucs
set_option linter.unusedVariables false
set_option linter.unusedSimpArgs false

theorem high_lit (u : Int) (w : World) (t : Bool) (ht : hiB u = t) : Calls Try.prog 37 #[.int .i32 u] w fun e w' => e = .returned (.bool t) ∧ w' = w := by
  subst ht; exact high_any u w
theorem scalar_lit (u : Int) (w : World) (t : Bool) (ht : scB u = t) : Calls Try.prog 39 #[.int .i32 u] w fun e w' => e = .returned (.bool t) ∧ w' = w := by
  subst ht; exact scalar_any u w
theorem two_first {w wz : World} {a b : Array Value} {t t' : TypeId} (hg : ((w.alloc (.cells a t)).alloc (.cells b t')).grownBy wz none) : wz.heap[w.heap.size]? = some (.cells a t (0, 0)) := blk_kept (res_alloc (heap_alloc_new w _) _) hg
theorem two_second {w wz : World} {a b : Array Value} {t t' : TypeId} (hg : ((w.alloc (.cells a t)).alloc (.cells b t')).grownBy wz none) : wz.heap[w.heap.size + 1]? = some (.cells b t' (0, 0)) := by
  have h := heap_alloc_new (w.alloc (.cells a t)) (.cells b t')
  have e : (w.alloc (.cells a t)).heap.size = w.heap.size + 1 := by simp
  rw [e] at h
  exact blk_kept h hg
theorem _root_.Go.Proofs.Ytkfcciacoplgmaa.Mem.Bytes.drop_ne {w : World} {ao : Option Addr} {L : List UInt8} (h : Bytes w ao L) (k c : Nat) (hk : 0 < k) (hc : L.length ≤ c) : Bytes w (ao.map fun x => ⟨x.block, x.off + k, none⟩) (L.drop k) := by
  rcases h with ⟨rfl, rfl⟩ | ⟨a, rfl, hcell⟩
  · exact .inl ⟨rfl, by simp⟩
  · refine .inr ⟨⟨a.block, a.off + k, none⟩, rfl, fun j hj => ?_⟩
    have hj' : k + j < L.length := by simp at hj; omega
    have h1 := hcell (k + j) hj'
    have e : a.add (k + j) = ⟨a.block, a.off + k + j, none⟩ := by
      unfold Addr.add
      rw [if_neg (by simp; omega), Nat.add_assoc]
    rw [addr_add, List.getElem_drop, ← e]
    exact h1
theorem _root_.Go.Proofs.Ytkfcciacoplgmaa.Mem.Bytes.drop_eq {w : World} {ao : Option Addr} {L : List UInt8} (h : Bytes w ao L) (k c : Nat) (hk : c = k) (hc : L.length ≤ c) : Bytes w ao (L.drop k) := by
  have := h.drop k c hc
  rwa [if_pos hk] at this
theorem cell_set_other {u : World} {b b' o i : Nat} {v : Value} (h : b ≠ b') : (u.setCell ⟨b', i, none⟩ v).cell? ⟨b, o, none⟩ = u.cell? ⟨b, o, none⟩ := by
  have hs : (u.setCell ⟨b', i, none⟩ v).heap[b]? = u.heap[b]? := Below.heap_setCell _ _ _ _ h
  unfold World.cell?
  rw [hs]
theorem sets9_other {wx : World} {b b' o : Nat} {v0 v1 v2 v3 v4 v5 v6 v7 v8 : Value} (h : b ≠ b') : (((((((((wx.setCell ⟨b', 0, none⟩ v0).setCell ⟨b', 1, none⟩ v1).setCell ⟨b', 2, none⟩ v2).setCell ⟨b', 3, none⟩ v3).setCell ⟨b', 4, none⟩ v4).setCell ⟨b', 5, none⟩ v5).setCell ⟨b', 6, none⟩ v6).setCell ⟨b', 7, none⟩ v7).setCell ⟨b', 8, none⟩ v8).cell? ⟨b, o, none⟩ = wx.cell? ⟨b, o, none⟩ := by
  rw [cell_set_other h, cell_set_other h, cell_set_other h, cell_set_other h, cell_set_other h, cell_set_other h, cell_set_other h, cell_set_other h, cell_set_other h]
theorem wrap32_nat (x : Nat) (h : x < 2147483648) : wrap32 (x : Int) = (x : Int) := by unfold wrap32; omega
/-- What two surrogates make. -/
def pairR (low : Bool) (u : Int) (L : List UInt8) : Gt :=
  if L.length < 2 then more else if loB (num low 2 L : Int) = true then ok 4 (joinV u (num low 2 L : Int)) 0 else ill 2 0
theorem pair_any (q : Nat) (low : Bool) (hq : q = fnOf low) (p m : Bool) (u : Int) (hu : hiB u = true) (ao : Option Addr) (len cap : Nat) (L : List UInt8) (w : World) (hB : Bytes w ao L) (hlen : L.length = len) (hx : len ≤ 140737488355328) (R : Gt) (hR : pairR low u L = R) :
    Calls Try.prog 38 #[.agg #[.int .i64 2, .bool p, .bool m, .func (.func q) #[] #[]], .int .i32 u, .slice ao len cap] w fun e w' => e = .returned (gotS R.e R.n R.k R.a 0) ∧ w.grownBy w' none := by
  subst hR
  have hn := num_lt low 2 L
  have hw : wrap32 (num low 2 L : Int) = (num low 2 L : Int) := wrap32_nat _ (by omega)
  unfold pairR
  by_cases h : L.length < 2
  · rw [if_pos h]
    exact pair_more q low hq p m u ao len cap L w hB hlen hx (by omega)
  · rw [if_neg h]
    by_cases k : loB (num low 2 L : Int) = true
    · rw [if_pos k]
      exact pair_yes q low hq p m u ao len cap L w hB hlen hx (by omega) _ _ hw (join_yes hu k).1 rfl
    · rw [if_neg k]
      have hj := join_no (a := u) (b := (num low 2 L : Int)) (.inr (by simpa using k))
      exact pair_no q low hq p m u ao len cap L w hB hlen hx (by omega) _ hw hj.1 hj.2

set_option maxRecDepth 100000 in
set_option maxHeartbeats 4000000 in
theorem step_pair (q : Nat) (low : Bool) (hq : Hid (q = fnOf low)) (m : Bool) (ao : Option Addr) (len cap : Nat) (L : List UInt8) (w : World) (hB : Hid (Bytes w ao L)) (hlen : Hid (L.length = len)) (hx : len ≤ 140737488355328) (hcap : len ≤ cap) (hcm : cap ≤ 9223372036854775807) (hl : 2 ≤ len) (v : Int) (hv : Hid (wrap32 (num low 2 L : Int) = v)) (hh : Hid (hiB v = true)) (R : Gt) (hR : Hid (pairR low v (L.drop 2) = R)) :
    Calls Try.prog 20 #[.agg #[.int .i64 2, .bool true, .bool m, .func (.func q) #[] #[]], .slice ao len cap] w fun e w' => e = .returned (gotS R.e R.n R.k R.a 0) ∧ w.grownBy w' none := by
  have k1 : (2 : Int) ≤ (len : Int) := by omega
  have k2 : (len : Int) ≤ (cap : Int) := by omega
  have k3 : (0 : Int) ≤ (len : Int) := by omega
  by_cases hc2 : cap = 2
  · subst hc2
    obtain rfl : len = 2 := by omega
    clear k1 k2 k3 hl hcap hx hcm
    go_enter Try.func20, Try.ntmps20
    go_wp2_with (first | (go_at_call 36; refine (number_any q low hq.out 2 true m (by omega) (by omega) _ 2 2 L _ ?_ hlen.out (by omega) (by omega) _ hv.out).mono ?_; exact hB.out.kept0 (by (repeat (first | with_reducible exact grownBy_refl _ _ | (with_reducible refine gs ?_ ?_; first | omega | (simp; omega)) | with_reducible refine ga ?_ | with_reducible refine gd ?_ | with_reducible refine gdn ?_ | with_reducible refine gt ?_ (by assumption)))); rintro e w1 ⟨rfl, hg1⟩; obtain ⟨hc1, hf1⟩ := gcell hg1; have z1a : w.heap.size < w1.heap.size := (by have hsz := hg1.size; (try simp at hsz); omega); have y1a : w.heap.size ≤ w1.heap.size := (by omega); have z1b : w.heap.size + 1 < w1.heap.size := (by have hsz := hg1.size; (try simp at hsz); omega); have y1b : w.heap.size + 1 ≤ w1.heap.size := (by omega)) | (go_at_call 37; refine (high_lit _ _ true hh.out).mono ?_; rintro e w2 ⟨rfl, hw⟩; obtain rfl := hw))
    have fb := two_first hg1
    have c0 := cell_at fb 0 (v := .int .i64 2) rfl
    have c1 := cell_at fb 1 (v := .bool true) rfl
    have c2 := cell_at fb 2 (v := .bool m) rfl
    have c3 := cell_at fb 3 (v := .func (.func q) #[] #[]) rfl
    clear hc1 hf1 fb
    go_region_with (first | (go_at_call 38; refine (pair_any q low hq.out true m v hh.out _ _ _ (L.drop 2) _ ?_ (by rw [List.length_drop, hlen.out]) (by omega) R hR.out).mono ?_; exact (hB.out.kept0 (by (repeat (first | with_reducible exact grownBy_refl _ _ | (with_reducible refine gs ?_ ?_; first | omega | (simp; omega)) | with_reducible refine ga ?_ | with_reducible refine gd ?_ | with_reducible refine gdn ?_ | with_reducible refine gt ?_ (by assumption))))).drop_eq 2 2 rfl (by rw [hlen.out]; omega); rintro e w3 ⟨rfl, hg3⟩; have rb := blk_kept (two_second (grownBy_drew hg1)) hg3; have r0 := cell_at rb 0 rfl; have r1 := cell_at rb 1 rfl; have r2 := cell_at rb 2 rfl; have r3 := cell_at rb 3 rfl; have r4 := cell_at rb 4 rfl; have r5 := cell_at rb 5 rfl; have r6 := cell_at rb 6 rfl; have r7 := cell_at rb 7 rfl; have r8 := cell_at rb 8 rfl; have fz := froz_at rb; clear rb))
    all_goals go_wp2
    all_goals refine bodyPost_ret (v := gotS R.e R.n R.k R.a 0) (by simp [results, Try.results20, go_sem, r0, r1, r2, r3, r4, r5, r6, r7, r8]) rfl ⟨rfl, ?_⟩
    all_goals (repeat (first | with_reducible exact grownBy_refl _ _ | (with_reducible refine gs ?_ ?_; first | omega | (simp; omega)) | with_reducible refine ga ?_ | with_reducible refine gd ?_ | with_reducible refine gdn ?_ | with_reducible refine gt ?_ (by assumption)))
  · have hc2' : ¬ (cap : Int) = 2 := by omega
    go_enter Try.func20, Try.ntmps20
    go_wp2_with (first | (go_at_call 36; refine (number_any q low hq.out 2 true m (by omega) (by omega) _ len cap L _ ?_ hlen.out hl hx _ hv.out).mono ?_; exact hB.out.kept0 (by (repeat (first | with_reducible exact grownBy_refl _ _ | (with_reducible refine gs ?_ ?_; first | omega | (simp; omega)) | with_reducible refine ga ?_ | with_reducible refine gd ?_ | with_reducible refine gdn ?_ | with_reducible refine gt ?_ (by assumption)))); rintro e w1 ⟨rfl, hg1⟩; obtain ⟨hc1, hf1⟩ := gcell hg1; have z1a : w.heap.size < w1.heap.size := (by have hsz := hg1.size; (try simp at hsz); omega); have y1a : w.heap.size ≤ w1.heap.size := (by omega); have z1b : w.heap.size + 1 < w1.heap.size := (by have hsz := hg1.size; (try simp at hsz); omega); have y1b : w.heap.size + 1 ≤ w1.heap.size := (by omega)) | (go_at_call 37; refine (high_lit _ _ true hh.out).mono ?_; rintro e w2 ⟨rfl, hw⟩; obtain rfl := hw))
    have fb := two_first hg1
    have c0 := cell_at fb 0 (v := .int .i64 2) rfl
    have c1 := cell_at fb 1 (v := .bool true) rfl
    have c2 := cell_at fb 2 (v := .bool m) rfl
    have c3 := cell_at fb 3 (v := .func (.func q) #[] #[]) rfl
    clear hc1 hf1 fb
    go_region_with (first | (go_at_call 38; refine (pair_any q low hq.out true m v hh.out _ (len - 2) (cap - 2) (L.drop 2) _ ?_ (by rw [List.length_drop, hlen.out]) (by omega) R hR.out).mono ?_; exact (hB.out.kept0 (by (repeat (first | with_reducible exact grownBy_refl _ _ | (with_reducible refine gs ?_ ?_; first | omega | (simp; omega)) | with_reducible refine ga ?_ | with_reducible refine gd ?_ | with_reducible refine gdn ?_ | with_reducible refine gt ?_ (by assumption))))).drop_ne 2 cap (by omega) (by rw [hlen.out]; exact hcap); rintro e w3 ⟨rfl, hg3⟩; have rb := blk_kept (two_second (grownBy_drew hg1)) hg3; have r0 := cell_at rb 0 rfl; have r1 := cell_at rb 1 rfl; have r2 := cell_at rb 2 rfl; have r3 := cell_at rb 3 rfl; have r4 := cell_at rb 4 rfl; have r5 := cell_at rb 5 rfl; have r6 := cell_at rb 6 rfl; have r7 := cell_at rb 7 rfl; have r8 := cell_at rb 8 rfl; have fz := froz_at rb; clear rb))
    all_goals go_wp2
    all_goals refine bodyPost_ret (v := gotS R.e R.n R.k R.a 0) (by simp [results, Try.results20, go_sem, r0, r1, r2, r3, r4, r5, r6, r7, r8]) rfl ⟨rfl, ?_⟩
    all_goals (repeat (first | with_reducible exact grownBy_refl _ _ | (with_reducible refine gs ?_ ?_; first | omega | (simp; omega)) | with_reducible refine ga ?_ | with_reducible refine gd ?_ | with_reducible refine gdn ?_ | with_reducible refine gt ?_ (by assumption)))

set_option maxRecDepth 100000 in
set_option maxHeartbeats 4000000 in
theorem step_ok0 (q : Nat) (low : Bool) (hq : Hid (q = fnOf low)) (m : Bool) (ao : Option Addr) (len cap : Nat) (L : List UInt8) (w : World) (hB : Hid (Bytes w ao L)) (hlen : Hid (L.length = len)) (hx : len ≤ 140737488355328) (hcap : len ≤ cap) (hcm : cap ≤ 9223372036854775807) (n : Nat) (h1 : 1 ≤ n) (h4 : n ≤ 4) (hl : n ≤ len) (v : Int) (hv : Hid (wrap32 (num low n L : Int) = v)) (hs : Hid (scB v = true)) :
    Calls Try.prog 20 #[.agg #[.int .i64 (n : Int), .bool false, .bool m, .func (.func q) #[] #[]], .slice ao len cap] w fun e w' => e = .returned (gotS 0 (n : Int) 1 v 0) ∧ w.grownBy w' none := by
  go_enter Try.func20, Try.ntmps20
  go_wp2_with (first | (go_at_call 36; refine (number_any q low hq.out n false m (by omega) (by omega) _ len cap L _ ?_ hlen.out hl hx _ hv.out).mono ?_; exact hB.out.kept0 (by (repeat (first | with_reducible exact grownBy_refl _ _ | (with_reducible refine gs ?_ ?_; first | omega | (simp; omega)) | with_reducible refine ga ?_ | with_reducible refine gd ?_ | with_reducible refine gdn ?_ | with_reducible refine gt ?_ (by assumption)))); rintro e w1 ⟨rfl, hg1⟩; obtain ⟨hc1, hf1⟩ := gcell hg1; have z1a : w.heap.size < w1.heap.size := (by have hsz := hg1.size; (try simp at hsz); omega); have y1a : w.heap.size ≤ w1.heap.size := (by omega); have z1b : w.heap.size + 1 < w1.heap.size := (by have hsz := hg1.size; (try simp at hsz); omega); have y1b : w.heap.size + 1 ≤ w1.heap.size := (by omega)) | (go_at_call 39; refine (scalar_lit _ _ true hs.out).mono ?_; rintro e w3 ⟨rfl, hw⟩; obtain rfl := hw))
  refine bodyPost_ret (v := gotS 0 (n : Int) 1 v 0) (by simp [results, Try.results20, go_sem, hc1, z1a, z1b, y1a, y1b]) rfl ⟨rfl, ?_⟩
  (repeat (first | with_reducible exact grownBy_refl _ _ | (with_reducible refine gs ?_ ?_; first | omega | (simp; omega)) | with_reducible refine ga ?_ | with_reducible refine gd ?_ | with_reducible refine gdn ?_ | with_reducible refine gt ?_ (by assumption)))

set_option maxRecDepth 100000 in
set_option maxHeartbeats 4000000 in
theorem step_no0 (q : Nat) (low : Bool) (hq : Hid (q = fnOf low)) (m : Bool) (ao : Option Addr) (len cap : Nat) (L : List UInt8) (w : World) (hB : Hid (Bytes w ao L)) (hlen : Hid (L.length = len)) (hx : len ≤ 140737488355328) (hcap : len ≤ cap) (hcm : cap ≤ 9223372036854775807) (n : Nat) (h1 : 1 ≤ n) (h4 : n ≤ 4) (hl : n ≤ len) (v : Int) (hv : Hid (wrap32 (num low n L : Int) = v)) (hs : Hid (scB v = false)) :
    Calls Try.prog 20 #[.agg #[.int .i64 (n : Int), .bool false, .bool m, .func (.func q) #[] #[]], .slice ao len cap] w fun e w' => e = .returned (gotS 10 (n : Int) 0 0 0) ∧ w.grownBy w' none := by
  go_enter Try.func20, Try.ntmps20
  go_wp2_with (first | (go_at_call 36; refine (number_any q low hq.out n false m (by omega) (by omega) _ len cap L _ ?_ hlen.out hl hx _ hv.out).mono ?_; exact hB.out.kept0 (by (repeat (first | with_reducible exact grownBy_refl _ _ | (with_reducible refine gs ?_ ?_; first | omega | (simp; omega)) | with_reducible refine ga ?_ | with_reducible refine gd ?_ | with_reducible refine gdn ?_ | with_reducible refine gt ?_ (by assumption)))); rintro e w1 ⟨rfl, hg1⟩; obtain ⟨hc1, hf1⟩ := gcell hg1; have z1a : w.heap.size < w1.heap.size := (by have hsz := hg1.size; (try simp at hsz); omega); have y1a : w.heap.size ≤ w1.heap.size := (by omega); have z1b : w.heap.size + 1 < w1.heap.size := (by have hsz := hg1.size; (try simp at hsz); omega); have y1b : w.heap.size + 1 ≤ w1.heap.size := (by omega)) | (go_at_call 39; refine (scalar_lit _ _ false hs.out).mono ?_; rintro e w3 ⟨rfl, hw⟩; obtain rfl := hw))
  refine bodyPost_ret (v := gotS 10 (n : Int) 0 0 0) (by simp [results, Try.results20, go_sem, hc1, z1a, z1b, y1a, y1b]) rfl ⟨rfl, ?_⟩
  (repeat (first | with_reducible exact grownBy_refl _ _ | (with_reducible refine gs ?_ ?_; first | omega | (simp; omega)) | with_reducible refine ga ?_ | with_reducible refine gd ?_ | with_reducible refine gdn ?_ | with_reducible refine gt ?_ (by assumption)))

set_option maxRecDepth 100000 in
set_option maxHeartbeats 4000000 in
theorem step_ok1 (q : Nat) (low : Bool) (hq : Hid (q = fnOf low)) (m : Bool) (ao : Option Addr) (len cap : Nat) (L : List UInt8) (w : World) (hB : Hid (Bytes w ao L)) (hlen : Hid (L.length = len)) (hx : len ≤ 140737488355328) (hcap : len ≤ cap) (hcm : cap ≤ 9223372036854775807) (hl : 2 ≤ len) (v : Int) (hv : Hid (wrap32 (num low 2 L : Int) = v)) (hh : Hid (hiB v = false)) (hs : Hid (scB v = true)) :
    Calls Try.prog 20 #[.agg #[.int .i64 2, .bool true, .bool m, .func (.func q) #[] #[]], .slice ao len cap] w fun e w' => e = .returned (gotS 0 2 1 v 0) ∧ w.grownBy w' none := by
  go_enter Try.func20, Try.ntmps20
  go_wp2_with (first | (go_at_call 36; refine (number_any q low hq.out 2 true m (by omega) (by omega) _ len cap L _ ?_ hlen.out hl hx _ hv.out).mono ?_; exact hB.out.kept0 (by (repeat (first | with_reducible exact grownBy_refl _ _ | (with_reducible refine gs ?_ ?_; first | omega | (simp; omega)) | with_reducible refine ga ?_ | with_reducible refine gd ?_ | with_reducible refine gdn ?_ | with_reducible refine gt ?_ (by assumption)))); rintro e w1 ⟨rfl, hg1⟩; obtain ⟨hc1, hf1⟩ := gcell hg1; have z1a : w.heap.size < w1.heap.size := (by have hsz := hg1.size; (try simp at hsz); omega); have y1a : w.heap.size ≤ w1.heap.size := (by omega); have z1b : w.heap.size + 1 < w1.heap.size := (by have hsz := hg1.size; (try simp at hsz); omega); have y1b : w.heap.size + 1 ≤ w1.heap.size := (by omega)) | (go_at_call 37; refine (high_lit _ _ false hh.out).mono ?_; rintro e w2 ⟨rfl, hw⟩; obtain rfl := hw) | (go_at_call 39; refine (scalar_lit _ _ true hs.out).mono ?_; rintro e w3 ⟨rfl, hw⟩; obtain rfl := hw))
  refine bodyPost_ret (v := gotS 0 2 1 v 0) (by simp [results, Try.results20, go_sem, hc1, z1a, z1b, y1a, y1b]) rfl ⟨rfl, ?_⟩
  (repeat (first | with_reducible exact grownBy_refl _ _ | (with_reducible refine gs ?_ ?_; first | omega | (simp; omega)) | with_reducible refine ga ?_ | with_reducible refine gd ?_ | with_reducible refine gdn ?_ | with_reducible refine gt ?_ (by assumption)))

set_option maxRecDepth 100000 in
set_option maxHeartbeats 4000000 in
theorem step_no1 (q : Nat) (low : Bool) (hq : Hid (q = fnOf low)) (m : Bool) (ao : Option Addr) (len cap : Nat) (L : List UInt8) (w : World) (hB : Hid (Bytes w ao L)) (hlen : Hid (L.length = len)) (hx : len ≤ 140737488355328) (hcap : len ≤ cap) (hcm : cap ≤ 9223372036854775807) (hl : 2 ≤ len) (v : Int) (hv : Hid (wrap32 (num low 2 L : Int) = v)) (hh : Hid (hiB v = false)) (hs : Hid (scB v = false)) :
    Calls Try.prog 20 #[.agg #[.int .i64 2, .bool true, .bool m, .func (.func q) #[] #[]], .slice ao len cap] w fun e w' => e = .returned (gotS 10 2 0 0 0) ∧ w.grownBy w' none := by
  go_enter Try.func20, Try.ntmps20
  go_wp2_with (first | (go_at_call 36; refine (number_any q low hq.out 2 true m (by omega) (by omega) _ len cap L _ ?_ hlen.out hl hx _ hv.out).mono ?_; exact hB.out.kept0 (by (repeat (first | with_reducible exact grownBy_refl _ _ | (with_reducible refine gs ?_ ?_; first | omega | (simp; omega)) | with_reducible refine ga ?_ | with_reducible refine gd ?_ | with_reducible refine gdn ?_ | with_reducible refine gt ?_ (by assumption)))); rintro e w1 ⟨rfl, hg1⟩; obtain ⟨hc1, hf1⟩ := gcell hg1; have z1a : w.heap.size < w1.heap.size := (by have hsz := hg1.size; (try simp at hsz); omega); have y1a : w.heap.size ≤ w1.heap.size := (by omega); have z1b : w.heap.size + 1 < w1.heap.size := (by have hsz := hg1.size; (try simp at hsz); omega); have y1b : w.heap.size + 1 ≤ w1.heap.size := (by omega)) | (go_at_call 37; refine (high_lit _ _ false hh.out).mono ?_; rintro e w2 ⟨rfl, hw⟩; obtain rfl := hw) | (go_at_call 39; refine (scalar_lit _ _ false hs.out).mono ?_; rintro e w3 ⟨rfl, hw⟩; obtain rfl := hw))
  refine bodyPost_ret (v := gotS 10 2 0 0 0) (by simp [results, Try.results20, go_sem, hc1, z1a, z1b, y1a, y1b]) rfl ⟨rfl, ?_⟩
  (repeat (first | with_reducible exact grownBy_refl _ _ | (with_reducible refine gs ?_ ?_; first | omega | (simp; omega)) | with_reducible refine ga ?_ | with_reducible refine gd ?_ | with_reducible refine gdn ?_ | with_reducible refine gt ?_ (by assumption)))

theorem wrap_scB (x : Nat) (h : x < 4294967296) : scB (wrap32 (x : Int)) = scB (x : Int) := by
  by_cases c : x < 2147483648
  · rw [wrap32_nat x c]
  · have e : wrap32 (x : Int) = (x : Int) - 4294967296 := by unfold wrap32; omega
    rw [e, scB_neg (by omega), scB_neg (by omega)]
theorem plain_pair (low : Bool) (L : List UInt8) (hl : 2 ≤ L.length) (hh : hiB (num low 2 L : Int) = true) : plainR true low 2 L 0 = pairR low (num low 2 L : Int) (L.drop 2) := by
  unfold plainR pairR
  rw [if_neg (by omega), if_pos ⟨rfl, hh⟩, List.length_drop]
  by_cases c : L.length < 2 + 2
  · rw [if_pos c, if_pos (by omega)]
  · rw [if_neg c]
    rw [if_neg (show ¬ L.length - 2 < 2 by omega)]
    rfl
theorem step_any (q : Nat) (low : Bool) (hq : q = fnOf low) (n : Nat) (hn : n = 2 ∨ n = 4) (p m : Bool) (hp : p = true → n = 2) (ao : Option Addr) (len cap : Nat) (L : List UInt8) (w : World) (hB : Bytes w ao L) (hlen : L.length = len) (hx : len ≤ 140737488355328) (hcap : len ≤ cap) (hcm : cap ≤ 9223372036854775807) (hl : n ≤ len) (R : Gt) (hR : plainR p low n L 0 = R) :
    Calls Try.prog 20 #[.agg #[.int .i64 (n : Int), .bool p, .bool m, .func (.func q) #[] #[]], .slice ao len cap] w fun e w' => e = .returned (gotS R.e R.n R.k R.a 0) ∧ w.grownBy w' none := by
  have hx4 : num low n L < 4294967296 := by
    have := num_lt low n L
    rcases hn with rfl | rfl <;> omega
  by_cases hh : p = true ∧ hiB (num low n L : Int) = true
  · obtain ⟨rfl, hh⟩ := hh
    obtain rfl := hp rfl
    have hw : wrap32 (num low 2 L : Int) = (num low 2 L : Int) := wrap32_nat _ (by have := num_lt low 2 L; omega)
    exact step_pair q low hq m ao len cap L w hB hlen hx hcap hcm hl _ hw hh R (show pairR low (num low 2 L : Int) (L.drop 2) = R by rw [← hR, plain_pair low L (by omega) hh])
  · have hR' : R = if scB (num low n L : Int) = true then ok n (num low n L : Int) 0 else ill n 0 := by
      rw [← hR]; unfold plainR
      rw [if_neg (by omega), if_neg hh]
    subst hR'
    by_cases hs : scB (num low n L : Int) = true
    · rw [if_pos hs]
      have hb := scB_iff.1 hs
      have hw : wrap32 (num low n L : Int) = (num low n L : Int) := wrap32_nat _ (by omega)
      cases p
      · exact step_ok0 q low hq m ao len cap L w hB hlen hx hcap hcm n (by omega) (by omega) hl _ hw hs
      · obtain rfl := hp rfl
        exact step_ok1 q low hq m ao len cap L w hB hlen hx hcap hcm hl _ hw (show hiB (num low 2 L : Int) = false by simpa using hh) hs
    · rw [if_neg hs]
      have hs' : scB (wrap32 (num low n L : Int)) = false := by rw [wrap_scB _ hx4]; simpa using hs
      cases p
      · exact step_no0 q low hq m ao len cap L w hB hlen hx hcap hcm n (by omega) (by omega) hl _ rfl hs'
      · obtain rfl := hp rfl
        have hw : wrap32 (num low 2 L : Int) = (num low 2 L : Int) := wrap32_nat _ (by have := num_lt low 2 L; omega)
        exact step_no1 q low hq m ao len cap L w hB hlen hx hcap hcm hl _ rfl (show hiB (wrap32 (num low 2 L : Int)) = false by rw [hw]; simpa using hh) hs'
end Go.Proofs.Ytkfcciacoplgmaa.Wd
