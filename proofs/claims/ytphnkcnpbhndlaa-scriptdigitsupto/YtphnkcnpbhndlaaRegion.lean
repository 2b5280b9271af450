/- A region that draws its order, walked in two stretches: what holds of memory behind a call may be said anew. -/
import Derived.Deep.RegionHeld3
namespace Go.Proofs.Ytphnkcnpbhndlaa.Mem

theorem wpAnyH_mono {P : Program} {md : Region.Mode} {ops : Array Oper} {Q : Exit → Act → World → Prop} {S T : World → Prop} (h : ∀ w, T w → S w) :
    ∀ (fuel : Nat) (listed : Array Bool) (a : Act) (w : World), wpAnyH P md ops Q T fuel listed a w → wpAnyH P md ops Q S fuel listed a w
  | 0, _, _, _, k => k
  | fuel + 1, _, _, _, k => ⟨k.1, fun i hi => wpOp_mono (fun _ _ t => ⟨h _ t.1, wpAnyH_mono h fuel _ _ _ t.2⟩) (k.2 i hi)⟩
end Go.Proofs.Ytphnkcnpbhndlaa.Mem
