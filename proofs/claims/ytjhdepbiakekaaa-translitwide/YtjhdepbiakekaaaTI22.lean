/- Layer 22: the chapter's list, and what the document's own functions answer (plain). -/
import Derived.Test.YtjhdepbiakekaaaPlain
namespace Go.Proofs.Ytjhdepbiakekaaa.C22
set_option linter.unusedVariables false

def tab : List (Nat × List (List UInt8)) := [
  (160, [[32]]),
  (161, [[33]]),
  (162, [[99]]),
  (163, [[71, 66, 80], [76]]),
  (165, [[74, 80, 89], [89]]),
  (166, [[33]]),
  (168, [[34]]),
  (169, [[40, 67, 41], [67]]),
  (171, [[60, 60], [60], [34]]),
  (173, [[45]]),
  (174, [[40, 82, 41], [82]]),
  (177, [[43, 47, 45], [43]]),
  (180, [[39]]),
  (181, [[117]]),
  (183, [[46]]),
  (184, [[44]]),
  (187, [[62, 62], [62], [34]]),
  (188, [[49, 47, 52]]),
  (189, [[49, 47, 50]]),
  (190, [[51, 47, 52]]),
  (191, [[63]]),
  (192, [[65]]),
  (193, [[65]]),
  (194, [[65]]),
  (195, [[65]]),
  (196, [[65, 101], [65]]),
  (197, [[65, 97], [65]]),
  (198, [[65, 69]]),
  (199, [[67]]),
  (200, [[69]]),
  (201, [[69]]),
  (202, [[69]]),
  (203, [[69]]),
  (204, [[73]]),
  (205, [[73]]),
  (206, [[73]]),
  (207, [[73]]),
  (208, [[68]]),
  (209, [[78]]),
  (210, [[79]]),
  (211, [[79]]),
  (212, [[79]]),
  (213, [[79]]),
  (214, [[79, 101], [79]]),
  (215, [[120]]),
  (216, [[79]]),
  (217, [[85]]),
  (218, [[85]]),
  (219, [[85]]),
  (220, [[85, 101], [85]]),
  (221, [[89]]),
  (222, [[84, 104]]),
  (223, [[115, 115]]),
  (224, [[97]]),
  (225, [[97]]),
  (226, [[97]]),
  (227, [[97]]),
  (228, [[97, 101], [97]]),
  (229, [[97, 97], [97]]),
  (230, [[97, 101]]),
  (231, [[99]]),
  (232, [[101]]),
  (233, [[101]]),
  (234, [[101]]),
  (235, [[101]]),
  (236, [[105]]),
  (237, [[105]]),
  (238, [[105]]),
  (239, [[105]]),
  (240, [[100]]),
  (241, [[110]]),
  (242, [[111]]),
  (243, [[111]]),
  (244, [[111]]),
  (245, [[111]]),
  (246, [[111, 101], [111]]),
  (247, [[58]]),
  (248, [[111]]),
  (249, [[117]]),
  (250, [[117]]),
  (251, [[117]]),
  (252, [[117, 101], [117]]),
  (253, [[121]]),
  (254, [[116, 104]]),
  (255, [[121]]),
  (272, [[68]]),
  (273, [[100]]),
  (305, [[105]]),
  (321, [[76]]),
  (322, [[108]]),
  (338, [[79, 69]]),
  (339, [[111, 101]]),
  (402, [[102]]),
  (8211, [[45]]),
  (8212, [[45, 45], [45]]),
  (8213, [[45, 45], [45]]),
  (8216, [[96], [39]]),
  (8217, [[194, 180], [39]]),
  (8218, [[44]]),
  (8220, [[194, 171], [34]]),
  (8221, [[194, 187], [34]]),
  (8222, [[44, 44], [34]]),
  (8224, [[43]]),
  (8226, [[194, 183], [111], [42]]),
  (8230, [[46, 46, 46], [46]]),
  (8240, [[111, 47, 111, 111]]),
  (8249, [[60]]),
  (8250, [[62]]),
  (8361, [[87]]),
  (8364, [[69, 85, 82], [69]]),
  (8482, [[84, 77], [84]]),
  (8722, [[45]]),
  (8800, [[47, 61], [33, 61]]),
  (8804, [[60, 61], [60]]),
  (8805, [[62, 61], [62]]),
  (12288, [[32, 32], [32]]),
  (64257, [[102, 105]]),
  (64258, [[102, 108]])]
def lowT : List (Nat × List (List UInt8)) := [
  (160, [[32]]),
  (161, [[33]]),
  (162, [[99]]),
  (163, [[71, 66, 80], [76]]),
  (165, [[74, 80, 89], [89]]),
  (166, [[33]]),
  (168, [[34]]),
  (169, [[40, 67, 41], [67]]),
  (171, [[60, 60], [60], [34]]),
  (173, [[45]]),
  (174, [[40, 82, 41], [82]]),
  (177, [[43, 47, 45], [43]]),
  (180, [[39]]),
  (181, [[117]]),
  (183, [[46]]),
  (184, [[44]]),
  (187, [[62, 62], [62], [34]]),
  (188, [[49, 47, 52]]),
  (189, [[49, 47, 50]]),
  (190, [[51, 47, 52]]),
  (191, [[63]])]
def higT : List (Nat × List (List UInt8)) := [
  (196, [[65, 101], [65]]),
  (197, [[65, 97], [65]]),
  (198, [[65, 69]]),
  (214, [[79, 101], [79]]),
  (220, [[85, 101], [85]]),
  (222, [[84, 104]]),
  (223, [[115, 115]]),
  (228, [[97, 101], [97]]),
  (229, [[97, 97], [97]]),
  (230, [[97, 101]]),
  (246, [[111, 101], [111]]),
  (252, [[117, 101], [117]]),
  (254, [[116, 104]]),
  (272, [[68]]),
  (273, [[100]]),
  (305, [[105]]),
  (321, [[76]]),
  (322, [[108]]),
  (338, [[79, 69]]),
  (339, [[111, 101]]),
  (402, [[102]])]
def mrkT : List (Nat × List (List UInt8)) := [
  (8211, [[45]]),
  (8212, [[45, 45], [45]]),
  (8213, [[45, 45], [45]]),
  (8216, [[96], [39]]),
  (8217, [[194, 180], [39]]),
  (8218, [[44]]),
  (8220, [[194, 171], [34]]),
  (8221, [[194, 187], [34]]),
  (8222, [[44, 44], [34]]),
  (8224, [[43]]),
  (8226, [[194, 183], [111], [42]]),
  (8230, [[46, 46, 46], [46]]),
  (8240, [[111, 47, 111, 111]]),
  (8249, [[60]]),
  (8250, [[62]]),
  (8361, [[87]]),
  (8364, [[69, 85, 82], [69]]),
  (8482, [[84, 77], [84]]),
  (8722, [[45]]),
  (8800, [[47, 61], [33, 61]]),
  (8804, [[60, 61], [60]]),
  (8805, [[62, 61], [62]]),
  (12288, [[32, 32], [32]]),
  (64257, [[102, 105]]),
  (64258, [[102, 108]])]
def letT : List (Nat × UInt8) := [(192, 65), (193, 65), (194, 65), (195, 65), (199, 67), (200, 69), (201, 69), (202, 69), (203, 69), (204, 73), (205, 73), (206, 73), (207, 73), (208, 68), (209, 78), (210, 79), (211, 79), (212, 79), (213, 79), (215, 120), (216, 79), (217, 85), (218, 85), (219, 85), (221, 89), (224, 97), (225, 97), (226, 97), (227, 97), (231, 99), (232, 101), (233, 101), (234, 101), (235, 101), (236, 105), (237, 105), (238, 105), (239, 105), (240, 100), (241, 110), (242, 111), (243, 111), (244, 111), (245, 111), (247, 58), (248, 111), (249, 117), (250, 117), (251, 117), (253, 121), (255, 121)]
def look (T : List (Nat × List (List UInt8))) (u : Int) : List (List UInt8) := match T.find? (fun p => decide ((p.1 : Int) = u)) with | some p => p.2 | none => []
def wid (u : Int) : Prop := 65281 ≤ u ∧ u ≤ 65374
def cands (u : Int) : List (List UInt8) := if 65281 ≤ u ∧ u ≤ 65374 then [[UInt8.ofNat (u - 65248).toNat]] else match letT.find? (fun p => decide ((p.1 : Int) = u)) with | some p => [[p.2]] | none => look lowT u ++ look higT u ++ look mrkT u
/-- All scalars in whose place something may stand. -/
def allT : List Nat := tab.map (·.1) ++ (List.range 94).map (· + 65281)
theorem find_none {α : Type} {T : List (Nat × α)} {u : Int} (h : ∀ p ∈ T, (p.1 : Int) ≠ u) : T.find? (fun p => decide ((p.1 : Int) = u)) = none := by
  rw [List.find?_eq_none]
  intro p hp
  simpa using h p hp
theorem look_none {T : List (Nat × List (List UInt8))} {u : Int} (h : ∀ p ∈ T, (p.1 : Int) ≠ u) : look T u = [] := by unfold look; rw [find_none h]
theorem low_tab : ∀ p ∈ lowT, p.1 ∈ tab.map (·.1) := by decide +kernel
theorem hig_tab : ∀ p ∈ higT, p.1 ∈ tab.map (·.1) := by decide +kernel
theorem mrk_tab : ∀ p ∈ mrkT, p.1 ∈ tab.map (·.1) := by decide +kernel
theorem let_tab : ∀ p ∈ letT, p.1 ∈ tab.map (·.1) := by decide +kernel
theorem tab_cands : ∀ p ∈ tab, cands (p.1 : Int) = p.2 ∧ look tab (p.1 : Int) = p.2 ∧ p.1 < 65281 ∧ p.2 ≠ [] := by decide +kernel
theorem cands_none {u : Int} (hw : ¬ (65281 ≤ u ∧ u ≤ 65374)) (h : ∀ p ∈ tab, (p.1 : Int) ≠ u) : cands u = [] := by
  have key : ∀ {n : Nat}, n ∈ tab.map (·.1) → (n : Int) ≠ u := by
    intro n hn
    obtain ⟨p, hp, rfl⟩ := List.mem_map.1 hn
    exact h p hp
  unfold cands
  rw [if_neg hw, find_none (fun p hp => key (let_tab p hp)), look_none (fun p hp => key (low_tab p hp)), look_none (fun p hp => key (hig_tab p hp)), look_none (fun p hp => key (mrk_tab p hp))]
  rfl
theorem cands_tab {u : Int} (hw : ¬ (65281 ≤ u ∧ u ≤ 65374)) : cands u = look tab u := by
  by_cases h : ∃ p ∈ tab, (p.1 : Int) = u
  · obtain ⟨p, hp, rfl⟩ := h
    have := tab_cands p hp
    rw [this.1, this.2.1]
  · have h2 : ∀ p ∈ tab, (p.1 : Int) ≠ u := fun p hp e => h ⟨p, hp, e⟩
    rw [cands_none hw h2, look_none h2]
theorem cands_wide {u : Int} (hw : 65281 ≤ u ∧ u ≤ 65374) : cands u = [[UInt8.ofNat (u - 65248).toNat]] := by unfold cands; rw [if_pos hw]
/-- Something may stand in a number's place just if it is among all. -/
theorem cands_all {u : Int} : cands u ≠ [] ↔ ∃ n ∈ allT, (n : Int) = u := by
  unfold allT
  constructor
  · intro h
    by_cases hw : 65281 ≤ u ∧ u ≤ 65374
    · exact ⟨u.toNat, List.mem_append_right _ (List.mem_map.2 ⟨u.toNat - 65281, List.mem_range.2 (by omega), by omega⟩), by omega⟩
    · by_cases hk : ∃ p ∈ tab, (p.1 : Int) = u
      · obtain ⟨p, hp, e⟩ := hk
        exact ⟨p.1, List.mem_append_left _ (List.mem_map.2 ⟨p, hp, rfl⟩), e⟩
      · exact absurd (cands_none hw (fun p hp e => hk ⟨p, hp, e⟩)) h
  · rintro ⟨n, hn, rfl⟩
    rcases List.mem_append.1 hn with h | h
    · obtain ⟨p, hp, rfl⟩ := List.mem_map.1 h
      rw [(tab_cands p hp).1]
      exact (tab_cands p hp).2.2.2
    · obtain ⟨i, hi, rfl⟩ := List.mem_map.1 h
      have := List.mem_range.1 hi
      rw [cands_wide ⟨by omega, by omega⟩]
      simp
theorem allT_rise : allT.Pairwise (· < ·) := by decide +kernel
theorem allT_in : ∀ n ∈ allT, n < 65536 ∧ ¬ (511 < n ∧ n < 8192) ∧ ¬ (12544 ≤ n ∧ n < 64256) := by decide +kernel
theorem allT_len : allT.length = 212 := by decide +kernel
/-- The candidates as they are listed: how many, how long; none of them twice. -/
theorem tab_short : ∀ p ∈ tab, p.2.length ≤ 3 ∧ (∀ s ∈ p.2, s.length ≤ 8 ∧ s ≠ []) ∧ p.2.Nodup := by decide +kernel
theorem cands_short (u : Int) : (cands u).length ≤ 3 ∧ (∀ s ∈ cands u, s.length ≤ 8 ∧ s ≠ []) ∧ (cands u).Nodup := by
  by_cases hw : 65281 ≤ u ∧ u ≤ 65374
  · rw [cands_wide hw]
    simp
  · by_cases hk : ∃ p ∈ tab, (p.1 : Int) = u
    · obtain ⟨p, hp, rfl⟩ := hk
      rw [(tab_cands p hp).1]
      exact tab_short p hp
    · rw [cands_none hw (fun p hp e => hk ⟨p, hp, e⟩)]
      simp
end Go.Proofs.Ytjhdepbiakekaaa.C22
