/- For every int, two bools and row of bools: a wish that is printed is taken apart as it was, and each name of a kind, in whatever letters, is that kind's alone; what the library's two listed tables hold at the start is as the library lays them (the card). -/
import Derived.Test.YtljkncgbabiojaaDoorRows
import Derived.Test.YtljkncgbabiojaaDoorCards
import Derived.Test.YtljkncgbabiojaaDoorTie
import Derived.Test.YtljkncgbabiojaaDoorPW23
import Derived.SevenTiedAt
import Derived.LaidMore
import Derived.Lay
import Derived.Stop.Joined
import Derived.WalkKit
import Derived.ProofKit
import Derived.OpenShut
import Derived.ShutString
import Derived.ChangeOld
import Derived.Below
import Derived.SizedLaws
import Derived.Deep.Grids
import Derived.Test.YtljkncgbabiojaaDoorNZd23
namespace Go.Proofs.YtljkncgbabiojaaDoor.namesBack
open Go.ChangeShapes Go.WideShapes Go.ChangeAt Go.RowKit
set_option linter.unusedVariables false

theorem own : ownKnob Tryd.prog.godebug = none := by kernel_rfl
theorem laidOut : laidOutB Tryd.prog = true := by kernel_rfl

def IsRow (k : IntKind) (w : World) (a : Option Addr) (len cap : Nat) (zs : List Int) : Prop :=
  (a = none ∧ len = 0 ∧ cap = 0 ∧ zs = []) ∨
  ∃ x, a = some x ∧ len ≤ cap ∧ cap ≤ 140737488351232 ∧ zs.length = cap ∧ (∀ i, i < zs.length → w.cell? (x.add i) = some (.int k (zs.getD i 0))) ∧ ∀ n ∈ zs, (Lit.int k n).wf = true

set_option maxRecDepth 100000 in
theorem lifted (os : Os) (started : os.Started) (H : Type) (enc : TypeId × Value → H) :
    ReturnsInHanded {} Tryd.checked os 4 .any (fun w args => (Rows.namesBackSpec.pre enc Tryd.prog Tryd.f4 [] false w args ∧ laidMetH Tryd.prog C23.laid1 w) ∧ sizedMet enc Tryd.prog Tryd.f4 (OpenSpec.ofChange Rows.namesBackSpec) false w args) (Rows.namesBackSpec.post enc Tryd.prog Tryd.f4 false true false false) := by
  refine returnsInHanded_of_calls own started (by kernel_rfl)
    (ChangeSpec.witness_shaped (enc := enc) (C := Tryd.checked) (os := os) (X := fun w _ => laidMetH Tryd.prog C23.laid1 w) false (World.laidAll Tryd.prog os C23.laid1) #[.int .i64 0, .bool false, .bool false, .slice none 0 0] 8 (World.laidAll_os _ _ _) (World.shaped_of_ZipB (by kernel_rfl) (by kernel_rfl)) (by kernel_rfl) (by kernel_rfl) (by kernel_rfl) (C23.laid_met os _)) ?_
  intro w tape i _ hsh _ hok hpre _
  obtain ⟨_, _, _, fn', hfn, _, _, _, _, hok2⟩ := hok
  obtain rfl : fn' = Tryd.f4 := Option.some.inj (hfn.symm.trans Tryd.func4)
  obtain ⟨⟨⟨ds, gs, before, hw, _⟩, _⟩, hz⟩ := hpre
  have hsz0 := hz.weights hw
  have hW := DataW.Whole.of_heap (w' := w.forCall tape i) (by rfl) hw
  clear hz hw hfn
  suffices key : Calls Tryd.prog 4 i.args (w.forCall tape i) (fun e W' => ∃ v, e = .returned v ∧ Rows.namesBackSpec.post enc Tryd.prog Tryd.f4 false true false false (w.forCall tape i) i.args v W') from
    key.mono (fun e W' h => by obtain ⟨v, rfl, hp⟩ := h; exact ChangeSpec.post_blind hp)
  revert hok2 hsh hW
  generalize w.forCall tape i = W
  generalize i.args = args
  generalize w.heap.size = base
  intro hsh hval0 hW
  have hVM := C23.vm_of hsh
  have hsz : (DataW.weightsEach Tryd.prog (Tryd.f4.params.toList ++ Rows.namesBackSpec.plain.varTypes Tryd.prog) (ds ++ gs)).all (· ≤ reachBytes) = true := hsz0
  have hval : ∀ (j : Nat) t v, Tryd.f4.params[j]? = some t → args[j]? = some v → Value.okWide Tryd.prog W .any base t v := hval0
  have hW' := hW
  obtain ⟨p, q, hA0, hV, rfl, hfz, hnd⟩ := hW
  have hA : DataW.TrodAll enc Tryd.prog W 0 (fun _ => true) true Tryd.f4.params.toList args.toList ds p := hA0
  rw [Tryd.params4] at hA hval hsz
  obtain ⟨v0, vs0, d0, ds0, p0, q0, hargs, rfl, rfl, h0, r0⟩ := trodAll_cons hA
  obtain ⟨v1, vs1, d1, ds1, p1, q1, rfl, rfl, rfl, h1, r1⟩ := trodAll_cons r0
  obtain ⟨v2, vs2, d2, ds2, p2, q2, rfl, rfl, rfl, h2, r2⟩ := trodAll_cons r1
  obtain ⟨v3, vs3, d3, ds3, p3, q3, rfl, rfl, rfl, h3, r3⟩ := trodAll_cons r2
  obtain ⟨rfl, rfl, rfl⟩ := trodAll_nil r3
  obtain rfl : args = #[v0, v1, v2, v3] := by cases args; simp_all
  obtain ⟨rfl, rfl⟩ := trodVars_none hV
  obtain ⟨a0, rfl, rfl, rfl, w0⟩ := open_int Tryd.underlying3 (hval 0 3 v0 rfl rfl) h0
  obtain ⟨a1, rfl, rfl, rfl⟩ := open_bool Tryd.underlying4 (hval 1 4 v1 rfl rfl) h1
  obtain ⟨a2, rfl, rfl, rfl⟩ := open_bool Tryd.underlying4 (hval 2 4 v2 rfl rfl) h2
  obtain ⟨a3, len3, cap3, rfl⟩ := okWide_slice Tryd.underlying33 (hval 3 33 v3 rfl rfl)
  have k3 := h3
  have lt3 : ∀ x ∈ p3, x.block < W.heap.size := by obtain ⟨m, hm⟩ := k3; exact DataW.trod_lt m _ _ _ hm
  obtain ⟨B3, w3⟩ : ∃ B : Nat → Bool, (a3 = none ∧ len3 = 0 ∧ cap3 = 0) ∨ ∃ x, a3 = some x ∧ len3 ≤ cap3 ∧ cap3 ≤ 9223372036854775807 ∧ ∀ i, i < cap3 → W.cell? (x.add i) = some (.bool (B i)) := by
    obtain ⟨fuel, hf⟩ := h3
    rcases Go.Deep.open_bools Tryd.underlying33 Tryd.underlying4 (by kernel_rfl) hf with ⟨hcs, _⟩ | ⟨x, l, c, B, hcs, _, hl, hm, hx, hcell⟩
    · simp [Value.cells] at hcs
      obtain ⟨rfl, rfl, rfl⟩ := hcs
      exact ⟨fun _ => false, .inl ⟨rfl, rfl, rfl⟩⟩
    · simp [Value.cells] at hcs
      obtain ⟨rfl, rfl, rfl⟩ := hcs
      exact ⟨B, .inr ⟨_, rfl, hl, by simpa [maxLen] using hm, hcell⟩⟩
  clear hA0 hval0
  refine (C23.back_law a0 a1 a2 a3 len3 cap3 B3 W w0 w3 hVM).mono fun e W' ⟨he, bel⟩ => ?_
  subst he
  exact ⟨_, rfl, _, _, _, [], _, [], hW', trodAll_mk1 (shut_bool Tryd.underlying4 _), (trodAll_cons_mk (shut_int Tryd.underlying3 w0) (trodAll_cons_mk (shut_bool Tryd.underlying4 _) (trodAll_cons_mk (shut_bool Tryd.underlying4 _) (trodAll_cons_mk (Below.trod laidOut (by kernel_rfl) (of_decide_eq_true (by kernel_rfl)) k3 bel lt3) trodAll_mk0)))), rfl, bel.frame _, fun h => by cases h⟩

theorem over : Rows.namesBackRow.holds Tryd.pinned (OpenSpec.ofChange Rows.namesBackSpec) :=
  OpenClaim.holds_of_wide 4 Tryd.f4 rfl rfl rfl rfl rfl rfl rfl ⟨rfl, rfl, rfl, rfl, rfl⟩ rfl rfl rfl rfl rfl (by kernel_rfl) Tryd.func4 (by kernel_rfl)
    (of_decide_eq_true (by kernel_rfl)) (by unfold Func.isWrapper; first | (rw [if_pos (by decide +kernel)]; kernel_rfl) | (rw [if_neg (by decide +kernel)]; exact ⟨rfl, rfl⟩))
    (fun os started H enc _ => lifted os started H enc)

theorem proved : Rows.NamesBackCardSaid :=
  Claim7.holds_tied_plain_at .later [] [.data, .pinned] true (true, "db6b484dbcdcded787d2e569846c404c490f32106dc7a947122d9130fc8851e4") true
    over (fun _ h => by cases h) (by kernel_rfl) (fun _ h => by cases h) namesBack_row_tie rfl ⟨rfl, rfl⟩ (by kernel_rfl) rfl
    (fun f fn hf hfn => by
      obtain rfl : f = 4 := Option.some.inj ((show Tryd.prog.funcNamed "dragoman/dragomanlaw23.NamesBack" = some 4 by kernel_rfl).symm.trans hf) |>.symm
      obtain rfl : fn = Tryd.f4 := (Option.some.inj (Tryd.func4.symm.trans hfn)).symm
      exact ⟨by kernel_rfl, fun j t ht => by
        rw [Tryd.params4] at ht
        have hm : t ∈ [3, 4, 4, 33] := by simpa using Array.mem_of_getElem? ht
        have hall : ([3, 4, 4, 33].all fun u => !Tryd.prog.wantsStandIn u) = true := by kernel_rfl
        exact (show Tryd.prog.wantsStandIn t = false by simpa using List.all_eq_true.1 hall t hm)⟩)
    (by kernel_rfl)
end Go.Proofs.YtljkncgbabiojaaDoor.namesBack
namespace Go.Proofs.YtljkncgbabiojaaDoor
theorem namesBack_holds : Rows.NamesBackCardSaid := namesBack.proved
#print axioms namesBack_holds
end Go.Proofs.YtljkncgbabiojaaDoor

