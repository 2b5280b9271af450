/- For every int and row of ints: what is wished behind a name may stand in any order, in any letters, twice, and with empty parts between; what the library's two listed tables hold at the start is as the library lays them (the card). -/
import Derived.Test.YtljkncgbabiojaaDoorRows
import Derived.Test.YtljkncgbabiojaaDoorCards
import Derived.Test.YtljkncgbabiojaaDoorTie
import Derived.Test.YtljkncgbabiojaaDoorPW23
import Derived.SevenTiedAt
import Derived.LaidMore
import Derived.Lay
import Derived.Stop.Joined
import Derived.WalkKit
import Derived.ProofKit
import Derived.OpenShut
import Derived.ShutString
import Derived.ChangeOld
import Derived.Below
import Derived.SizedLaws
import Derived.Test.YtljkncgbabiojaaDoorNZd23
namespace Go.Proofs.YtljkncgbabiojaaDoor.namesFlags
open Go.ChangeShapes Go.WideShapes Go.ChangeAt Go.RowKit
set_option linter.unusedVariables false

theorem own : ownKnob Tryd.prog.godebug = none := by kernel_rfl
theorem bytes3 : Tryd.prog.bytesOf 3 = 8 := by kernel_rfl
theorem laidOut : laidOutB Tryd.prog = true := by kernel_rfl

def IsRow (k : IntKind) (w : World) (a : Option Addr) (len cap : Nat) (zs : List Int) : Prop :=
  (a = none ∧ len = 0 ∧ cap = 0 ∧ zs = []) ∨
  ∃ x, a = some x ∧ len ≤ cap ∧ cap ≤ 140737488351232 ∧ zs.length = cap ∧ (∀ i, i < zs.length → w.cell? (x.add i) = some (.int k (zs.getD i 0))) ∧ ∀ n ∈ zs, (Lit.int k n).wf = true

set_option maxRecDepth 100000 in
theorem lifted (os : Os) (started : os.Started) (H : Type) (enc : TypeId × Value → H) :
    ReturnsInHanded {} Tryd.checked os 5 .any (fun w args => (Rows.namesFlagsSpec.pre enc Tryd.prog Tryd.f5 [] false w args ∧ laidMetH Tryd.prog C23.laid1 w) ∧ sizedMet enc Tryd.prog Tryd.f5 (OpenSpec.ofChange Rows.namesFlagsSpec) false w args) (Rows.namesFlagsSpec.post enc Tryd.prog Tryd.f5 false true false false) := by
  refine returnsInHanded_of_calls own started (by kernel_rfl)
    (ChangeSpec.witness_shaped (enc := enc) (C := Tryd.checked) (os := os) (X := fun w _ => laidMetH Tryd.prog C23.laid1 w) false (World.laidAll Tryd.prog os C23.laid1) #[.int .i64 0, .slice none 0 0] 8 (World.laidAll_os _ _ _) (World.shaped_of_ZipB (by kernel_rfl) (by kernel_rfl)) (by kernel_rfl) (by kernel_rfl) (by kernel_rfl) (C23.laid_met os _)) ?_
  intro w tape i _ hsh _ hok hpre _
  obtain ⟨_, _, _, fn', hfn, _, _, _, _, hok2⟩ := hok
  obtain rfl : fn' = Tryd.f5 := Option.some.inj (hfn.symm.trans Tryd.func5)
  obtain ⟨⟨⟨ds, gs, before, hw, _⟩, _⟩, hz⟩ := hpre
  have hsz0 := hz.weights hw
  have hW := DataW.Whole.of_heap (w' := w.forCall tape i) (by rfl) hw
  clear hz hw hfn
  suffices key : Calls Tryd.prog 5 i.args (w.forCall tape i) (fun e W' => ∃ v, e = .returned v ∧ Rows.namesFlagsSpec.post enc Tryd.prog Tryd.f5 false true false false (w.forCall tape i) i.args v W') from
    key.mono (fun e W' h => by obtain ⟨v, rfl, hp⟩ := h; exact ChangeSpec.post_blind hp)
  revert hok2 hsh hW
  generalize w.forCall tape i = W
  generalize i.args = args
  generalize w.heap.size = base
  intro hsh hval0 hW
  have hVM := C23.vm_of hsh
  have hsz : (DataW.weightsEach Tryd.prog (Tryd.f5.params.toList ++ Rows.namesFlagsSpec.plain.varTypes Tryd.prog) (ds ++ gs)).all (· ≤ reachBytes) = true := hsz0
  have hval : ∀ (j : Nat) t v, Tryd.f5.params[j]? = some t → args[j]? = some v → Value.okWide Tryd.prog W .any base t v := hval0
  have hW' := hW
  obtain ⟨p, q, hA0, hV, rfl, hfz, hnd⟩ := hW
  have hA : DataW.TrodAll enc Tryd.prog W 0 (fun _ => true) true Tryd.f5.params.toList args.toList ds p := hA0
  rw [Tryd.params5] at hA hval hsz
  obtain ⟨v0, vs0, d0, ds0, p0, q0, hargs, rfl, rfl, h0, r0⟩ := trodAll_cons hA
  obtain ⟨v1, vs1, d1, ds1, p1, q1, rfl, rfl, rfl, h1, r1⟩ := trodAll_cons r0
  obtain ⟨rfl, rfl, rfl⟩ := trodAll_nil r1
  obtain rfl : args = #[v0, v1] := by cases args; simp_all
  obtain ⟨rfl, rfl⟩ := trodVars_none hV
  obtain ⟨a0, rfl, rfl, rfl, w0⟩ := open_int Tryd.underlying3 (hval 0 3 v0 rfl rfl) h0
  obtain ⟨a1, len1, cap1, rfl⟩ := okWide_slice Tryd.underlying35 (hval 1 35 v1 rfl rfl)
  have k1 := h1
  have lt1 : ∀ x ∈ p1, x.block < W.heap.size := by obtain ⟨m, hm⟩ := k1; exact DataW.trod_lt m _ _ _ hm
  obtain ⟨z1, w1⟩ : ∃ zs, IsRow .i64 W a1 len1 cap1 zs := by
    obtain ⟨fuel, hf⟩ := h1
    rcases open_ints Tryd.underlying35 Tryd.underlying3 (by kernel_rfl) hf with ⟨hcs, _⟩ | ⟨x, l, c, zs, hcs, _, hl, hm, hz, hx, hcell, hwz⟩
    · simp [Value.cells] at hcs
      obtain ⟨rfl, rfl, rfl⟩ := hcs
      exact ⟨[], .inl ⟨rfl, rfl, rfl, rfl⟩⟩
    · simp [Value.cells] at hcs
      obtain ⟨rfl, rfl, rfl⟩ := hcs
      simp only [Prod.mk.injEq] at hx
      have hr := sized_slice hsz (j := 1) (t := 35) (e := 3) rfl (by rw [hx.1]; rfl) Tryd.underlying35
      rw [bytes3] at hr
      simp only [lits, List.length_map, List.length_take, List.length_drop, reachBytes] at hr
      simp only [if_true] at hz
      exact ⟨zs, .inr ⟨_, rfl, hl, by omega, hz, hcell, hwz⟩⟩
  clear hA0 hval0
  refine (C23.flags_law a0 a1 len1 cap1 z1 W w0 w1 hVM).mono fun e W' ⟨he, bel⟩ => ?_
  subst he
  exact ⟨_, rfl, _, _, _, [], _, [], hW', trodAll_mk1 (shut_bool Tryd.underlying4 _), (trodAll_cons_mk (shut_int Tryd.underlying3 w0) (trodAll_cons_mk (Below.trod laidOut (by kernel_rfl) (of_decide_eq_true (by kernel_rfl)) k1 bel lt1) trodAll_mk0)), rfl, bel.frame _, fun h => by cases h⟩

theorem over : Rows.namesFlagsRow.holds Tryd.pinned (OpenSpec.ofChange Rows.namesFlagsSpec) :=
  OpenClaim.holds_of_wide 5 Tryd.f5 rfl rfl rfl rfl rfl rfl rfl ⟨rfl, rfl, rfl, rfl, rfl⟩ rfl rfl rfl rfl rfl (by kernel_rfl) Tryd.func5 (by kernel_rfl)
    (of_decide_eq_true (by kernel_rfl)) (by unfold Func.isWrapper; first | (rw [if_pos (by decide +kernel)]; kernel_rfl) | (rw [if_neg (by decide +kernel)]; exact ⟨rfl, rfl⟩))
    (fun os started H enc _ => lifted os started H enc)

theorem proved : Rows.NamesFlagsCardSaid :=
  Claim7.holds_tied_plain_at .later [] [.data, .pinned] true (true, "db6b484dbcdcded787d2e569846c404c490f32106dc7a947122d9130fc8851e4") true
    over (fun _ h => by cases h) (by kernel_rfl) (fun _ h => by cases h) namesFlags_row_tie rfl ⟨rfl, rfl⟩ (by kernel_rfl) rfl
    (fun f fn hf hfn => by
      obtain rfl : f = 5 := Option.some.inj ((show Tryd.prog.funcNamed "dragoman/dragomanlaw23.NamesFlags" = some 5 by kernel_rfl).symm.trans hf) |>.symm
      obtain rfl : fn = Tryd.f5 := (Option.some.inj (Tryd.func5.symm.trans hfn)).symm
      exact ⟨by kernel_rfl, fun j t ht => by
        rw [Tryd.params5] at ht
        have hm : t ∈ [3, 35] := by simpa using Array.mem_of_getElem? ht
        have hall : ([3, 35].all fun u => !Tryd.prog.wantsStandIn u) = true := by kernel_rfl
        exact (show Tryd.prog.wantsStandIn t = false by simpa using List.all_eq_true.1 hall t hm)⟩)
    (by kernel_rfl)
end Go.Proofs.YtljkncgbabiojaaDoor.namesFlags
namespace Go.Proofs.YtljkncgbabiojaaDoor
theorem namesFlags_holds : Rows.NamesFlagsCardSaid := namesFlags.proved
#print axioms namesFlags_holds
end Go.Proofs.YtljkncgbabiojaaDoor

