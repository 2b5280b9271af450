/- The program's list of layer 22: an array of structs, made by one region: a walk. -/
import Derived.Test.YtjhdepbiakekaaaTI22
import Derived.Test.YtjhdepbiakekaaaSt
import Derived.Test.YtjhdepbiakekaaaCb
import Derived.Laws.Tables
import Derived.Deep.Cut
namespace Go.Proofs.Ytjhdepbiakekaaa.C22
open Go.ChangeShapes Go.WideShapes Go.ChangeAt Go.RowKit Go.Proofs.Ytjhdepbiakekaaa.Mem Go.Proofs.Ytjhdepbiakekaaa.El Go.Proofs.Ytjhdepbiakekaaa.St Go.Proofs.Ytjhdepbiakekaaa.Cb
set_option linter.unusedVariables false
set_option linter.unusedSimpArgs false

/-- Operations that build values alone, run one behind the other. -/
def pstep (P : Program) (o : Oper) (a : Act) : Option Act :=
  match o.guard, o.op with
  | none, .build T parts => (P.built T (parts.map fun p => (p.1, a.eval p.2)).toList).map (fun cs => a.put o.dst (.agg cs))
  | _, _ => none
def prun (P : Program) : List Oper → Act → Option Act
  | [], a => some a
  | o :: r, a => match pstep P o a with | some b => prun P r b | none => none
theorem wpList_pstep {P : Program} {ops : Array Oper} {Q : Exit → Act → World → Prop} {w : World} {o : Oper} {rest : List Oper} {a b : Act} (h : pstep P o a = some b) (hK : wpList P ops Q rest b w) : wpList P ops Q (o :: rest) a w := by
  unfold pstep at h
  split at h
  · rename_i T parts hg ho
    obtain ⟨cs, h1, rfl⟩ := Option.map_eq_some_iff.1 h
    refine wpList_plain hg fun K' hK' => ?_
    have hr := run_build (P := P) w T (parts.map fun p => (p.1, a.eval p.2)) cs h1
    unfold Oper.wp execOp
    simp only [ho, Sem.run_bind, Sem.run_pure, Result.andThen_ok, hr]
    exact hK' _ _ hK
  · cases h
theorem wpList_prun {P : Program} {ops : Array Oper} {Q : Exit → Act → World → Prop} {w : World} : ∀ (k : Nat) (L : List Oper) (a b : Act), prun P (L.take k) a = some b → wpList P ops Q (L.drop k) b w → wpList P ops Q L a w
  | 0, L, a, b, h, hK => by
    rw [List.take_zero] at h
    cases Option.some.inj h
    rwa [List.drop_zero] at hK
  | k + 1, [], a, b, h, hK => by
    rw [List.take_nil] at h
    cases Option.some.inj h
    rwa [List.drop_nil] at hK
  | k + 1, o :: L, a, b, h, hK => by
    rw [List.take_succ_cons] at h
    rw [List.drop_succ_cons] at hK
    unfold prun at h
    split at h
    · rename_i c hc
      exact wpList_pstep hc (wpList_prun k L c b h hK)
    · cases h
/-- An entry's cells. -/
def entC (p : Nat × List (List UInt8)) : List Value := [.int .i32 (p.1 : Int), .string (str (p.2.getD 0 [])), .string (str (p.2.getD 1 [])), .string (str (p.2.getD 2 []))]
def tabC : Array Value := (tab.flatMap entC).toArray
def zerC : Array Value := (List.replicate 118 [Value.int .i32 0, .string ⟨#[]⟩, .string ⟨#[]⟩, .string ⟨#[]⟩]).flatten.toArray
theorem tabC_size : tabC.size = 472 := by decide +kernel
theorem zerC_size : zerC.size = 472 := by decide +kernel
theorem tabC_one : tabC.all (·.oneCell') = true := by kernel_rfl
theorem infoT : (Try.prog.info? 40).map (·.size) = some 472 := by kernel_rfl
theorem zeroT (w : World) : (zeroValue 40).run Try.prog w = .ok (.agg zerC) w := by kernel_rfl
theorem wpList_prun2 {P : Program} {ops : Array Oper} {Q : Exit → Act → World → Prop} {w : World} (k : Nat) (L : List Oper) (a : Act) (T : TypeId) (x : Tmp) (y : Operand) (vx vy : Value) (h : (prun P (L.take k) a).map (fun b => (b.tmps.getD x undef, b.eval y, b.defers)) = some (vx, vy, [])) (hd : (L.drop k).map (fun o => (o.guard, o.dst, o.op)) = [(none, none, .store T (.tmp x) y)]) (hK : ∀ (b : Act) (o : Oper), b.tmps.getD x undef = vx → b.eval y = vy → b.defers = [] → o.guard = none → o.dst = none → o.op = .store T (.tmp x) y → wpList P ops Q [o] b w) : wpList P ops Q L a w := by
  obtain ⟨b, h1, h2⟩ := Option.map_eq_some_iff.1 h
  simp only [Prod.mk.injEq] at h2
  obtain ⟨o, ho, h3⟩ : ∃ o, L.drop k = [o] ∧ (o.guard, o.dst, o.op) = (none, none, Op.store T (.tmp x) y) := by
    cases hL : L.drop k with
    | nil => rw [hL] at hd; cases hd
    | cons o r =>
      rw [hL] at hd
      cases r with
      | nil => exact ⟨o, rfl, by simpa using hd⟩
      | cons o2 r => simp at hd
  simp only [Prod.mk.injEq] at h3
  refine wpList_prun k L a b h1 ?_
  rw [ho]
  exact hK b o h2.1 h2.2.1 h2.2.2 h3.1 h3.2.1 h3.2.2
set_option maxRecDepth 100000 in
set_option maxHeartbeats 1000000 in
theorem list_any (w : World) : Calls Try.prog 17 #[] w fun e w' => e = .returned (.agg tabC) ∧ w.grownBy w' none := by
  go_enter Try.func17, Try.ntmps17
  go_upto_region 1 with (refine wpList_allocC _ rfl 40 rfl zerC (zeroT _) ?_; intro w1 ca1 hg1)
  refine wp_region_lit ?_
  refine wpList_prun2 237 _ _ 40 0 (.tmp 237) (.pointer (some ⟨w.heap.size, 0, none⟩)) (.agg tabC) (by kernel_rfl) (by kernel_rfl) ?_
  intro b o hx hy hb hog hod hop
  refine wpList_storeC _ hog 40 _ _ hop w.heap.size zerC tabC (by rw [infoT, tabC_size]) (by rw [zerC_size, tabC_size]) tabC_one hx hy ca1 ?_
  intro w2 ca2 hg2
  refine wpList_nil ?_
  rw [hod]
  generalize hB : b.put none undef = b2
  have hb2 : b2.tmps.getD 0 undef = .pointer (some ⟨w.heap.size, 0, none⟩) ∧ b2.defers = [] := by
    rw [← hB]
    exact ⟨hx, hb⟩
  go_wp2
  refine bodyPost_ret (v := .agg tabC) (results_cell_row Try.results17 _ w2 w.heap.size 40 _ (0, 0) _ hb2.1 ca2 Try.underlying40 rfl (by rw [infoT, tabC_size])) hb2.2 ⟨rfl, ?_⟩
  exact grownBy_new hg1 hg2 (fun k hk => by have h5 := Option.some.inj hk; omega)
end Go.Proofs.Ytjhdepbiakekaaa.C22
