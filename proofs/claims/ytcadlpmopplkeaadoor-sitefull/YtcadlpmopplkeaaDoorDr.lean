/- Several texts in one. -/
import Derived.Test.YtcadlpmopplkeaaDoorD5
import Derived.Deep.RegionHeld3
/- site: Version, isVersion; a target's editions found; at's closure. -/
namespace Go.Proofs.YtcadlpmopplkeaaDoor
open Go.RowKit Go.Maps
open Go.Shelf
set_option linter.unusedVariables false
set_option linter.unusedSimpArgs false

/-- a target's editions are found -/
theorem Si.look {w : World} {lo g b N : Nat} {nv : Int} {L : List Te} (h : Si w lo g b N nv L) (t : Tg) (ht : tz t) : (Instr.lookup 77 (.map (some b)) (.agg (tgv t)) false).run Tryd.prog w = .ok (sv (edY L t)) w ∧ R EEd w (sv (edY L t)) (edL L t) := by
  obtain ⟨n, D, hn, ho, hM⟩ := h.own
  have hat := hM.at' t ht
  obtain ⟨v, ps, hrun, hv⟩ := ho.lookup KT (t := 77) (e := 108) Tryd.underlying77 (zero108 w) (zd := .held (.slice none 0 0)) (zp := []) rfl (key_of t ht)
  unfold edL edY
  cases hf : fdT L t with
  | none =>
    rw [hf] at hat
    rw [hat] at hv
    simp [hd] at hv
    exact ⟨by rw [hrun, hv.1]; rfl, R.nil _ _⟩
  | some r =>
    rw [hf] at hat
    rw [hat] at hv
    simp [hd] at hv
    exact ⟨by rw [hrun, hv.1], (h.sr.rows r (List.mem_of_find?_eq_some hf)).1⟩
/-- how many targets it has -/
theorem Si.len {w : World} {lo g b N : Nat} {nv : Int} {L : List Te} (h : Si w lo g b N nv L) : (Builtin.len_ #[77] 3 #[.map (some b)]).run Tryd.prog w = .ok (.int .i64 L.length) w := by
  obtain ⟨n, D, hn, ho, hM⟩ := h.own
  rw [← hM.size]
  exact ho.len Tryd.underlying77 3
set_option maxHeartbeats 4000000 in
theorem version_any (lo g b N : Nat) (nv : Int) (L : List Te) (w : World) (hS : Si w lo g b N nv L) :
    Calls Tryd.prog 15 #[.pointer (some ⟨g, 0, none⟩)] w fun e w' => e = .returned (.int .i64 nv) ∧ w' = w := by
  have c0 := cell_blk hS.hg 0
  simp at c0
  clear hS
  go_enter Tryd.func15, Tryd.ntmps15
  go_wp2_with fail
  refine bodyPost_ret (results_tmp rfl _ _ _) rfl ?_
  exact ⟨rfl, rfl⟩
/-- whether it is a version's number -/
def ivB (nv v : Int) : Bool := decide (1 ≤ v) && decide (v ≤ nv)
set_option maxHeartbeats 4000000 in
theorem isVersion_any (lo g b N : Nat) (nv v : Int) (L : List Te) (w : World) (hS : Si w lo g b N nv L) :
    Calls Tryd.prog 36 #[.pointer (some ⟨g, 0, none⟩), .int .i64 v] w fun e w' => e = .returned (.bool (ivB nv v)) ∧ w' = w := by
  have c0 := cell_blk hS.hg 0
  simp at c0
  clear hS
  unfold ivB
  by_cases h1 : 1 ≤ v
  · by_cases h2 : v ≤ nv
    · rw [decide_eq_true h1, decide_eq_true h2]
      go_enter Tryd.func36, Tryd.ntmps36
      go_wp2_with fail
      refine bodyPost_ret (results_tmp rfl _ _ _) rfl ?_
      exact ⟨rfl, rfl⟩
    · rw [decide_eq_true h1, decide_eq_false h2]
      go_enter Tryd.func36, Tryd.ntmps36
      go_wp2_with fail
      refine bodyPost_ret (results_tmp rfl _ _ _) rfl ?_
      exact ⟨rfl, rfl⟩
  · rw [decide_eq_false h1]
    go_enter Tryd.func36, Tryd.ntmps36
    go_wp2_with fail
    refine bodyPost_ret (results_tmp rfl _ _ _) rfl ?_
    exact ⟨rfl, rfl⟩
end Go.Proofs.YtcadlpmopplkeaaDoor

/- site: at's closure. -/
namespace Go.Proofs.YtcadlpmopplkeaaDoor
open Go.RowKit Go.Maps
open Go.Shelf
set_option linter.unusedVariables false
set_option linter.unusedSimpArgs false

theorem In.ed {w : World} {v : Value} {l : List Ed} (h : In EEd w v l) (k : Nat) (hk : k < l.length) : ∃ B off cap, v = .slice (some ⟨B, off, none⟩) l.length cap ∧ ∀ W, Below w.heap.size w W → W.cell? ⟨B, off + k * 4, none⟩ = some (.int .i64 l[k].s) ∧ W.cell? ⟨B, off + k * 4 + 1, none⟩ = some (.int .i64 l[k].n) ∧ W.cell? ⟨B, off + k * 4 + 2, none⟩ = some (.string l[k].v) ∧ W.cell? ⟨B, off + k * 4 + 3, none⟩ = some (sv l[k].y) := by
  obtain ⟨B, off, cap, e, hB, hc⟩ := h.get okEd k hk
  refine ⟨B, off, cap, e, fun W hW => ?_⟩
  have c0 := hc 0 (.int .i64 l[k].s) rfl
  have c1 := hc 1 (.int .i64 l[k].n) rfl
  have c2 := hc 2 (.string l[k].v) rfl
  have c3 := hc 3 (sv l[k].y) rfl
  exact ⟨(hW.cell hB).trans c0, (hW.cell hB).trans c1, (hW.cell hB).trans c2, (hW.cell hB).trans c3⟩
theorem en58 : ∀ args W, (callFunc 58 args).run Tryd.prog W = .ok (.enter 58 args) W := enters_of Tryd.func58 (by kernel_rfl) rfl
set_option maxHeartbeats 4000000 in
theorem at1_any (x : SV) (l : List Ed) (v : Int) (q p k : Nat) (w : World) (hI : In EEd w (sv x) l) (hk : k < l.length) (hq : w.cell? ⟨q, 0, none⟩ = some (sv x)) (hp : w.cell? ⟨p, 0, none⟩ = some (.int .i64 v)) :
    Calls Tryd.prog 58 #[.int .i64 (k : Int), .pointer (some ⟨q, 0, none⟩), .pointer (some ⟨p, 0, none⟩)] w fun e w' => e = .returned (.bool (decide (v < l[k].s))) ∧ Below w.heap.size w w' := by
  obtain ⟨B, off, cap, e, hc⟩ := hI.ed k hk
  rw [e] at hq
  have c0 := (hc w.drew (Below.refl _ _).drew).1
  have hB : Hid (Below w.heap.size w w.drew) := (Below.refl _ _).drew
  have hlq := World.block_lt_of_cell? _ _ hq
  have hlp := World.block_lt_of_cell? _ _ hp
  have c1 := (hB.out.cell hlq).trans hq
  have c2 := (hB.out.cell hlp).trans hp
  have h0 : (0 : Int) ≤ (k : Int) := by omega
  have h1 : (k : Int) < (l.length : Int) := by omega
  obtain ⟨s, hs⟩ : ∃ s, l[k].s = s := ⟨_, rfl⟩
  rw [hs] at c0 ⊢
  clear hc e hI hq hp hlq hlp hs
  go_enter Tryd.func58, Tryd.ntmps58
  go_wp2_with fail
  go_region
  all_goals (go_wp2_with fail)
  all_goals (refine bodyPost_ret (results_tmp rfl _ _ _) rfl ?_)
  all_goals exact ⟨rfl, hB.out⟩
end Go.Proofs.YtcadlpmopplkeaaDoor

/- site: sort.Search over editions. -/
namespace Go.Proofs.YtcadlpmopplkeaaDoor
open Go.RowKit Go.Maps
open Go.Shelf
set_option linter.unusedVariables false
set_option linter.unusedSimpArgs false

/-- a place between the editions that are no newer and those that are -/
def Pl (l : List Ed) (v : Int) (r : Nat) : Prop := r ≤ l.length ∧ (∀ i (h : i < l.length), i + 1 = r → l[i].s ≤ v) ∧ ∀ h : r < l.length, v < l[r].s
theorem w64_in (n : Int) (h : -9223372036854775808 ≤ n ∧ n ≤ 9223372036854775807) : wrap64 n = n := by unfold wrap64; omega
theorem mid_is (i j : Nat) (h : i + j ≤ 281474976710656) : wrap64 (IntKind.u64.wrap (wrap64 ((i : Int) + (j : Int))) / 2) = (((i + j) / 2 : Nat) : Int) := by
  rw [w64_in ((i : Int) + (j : Int)) ⟨by omega, by omega⟩]
  have e1 : IntKind.u64.wrap ((i : Int) + (j : Int)) = (i : Int) + (j : Int) := by
    show ((i : Int) + (j : Int)) % 18446744073709551616 = _
    omega
  rw [e1, w64_in _ ⟨by omega, by omega⟩]
  omega
set_option maxHeartbeats 4000000 in
set_option maxRecDepth 100000 in
theorem search_any (x : SV) (l : List Ed) (v : Int) (q p : Nat) (w : World) (hI : In EEd w (sv x) l) (hz : l.length ≤ 140737488355328) (hq : w.cell? ⟨q, 0, none⟩ = some (sv x)) (hp : w.cell? ⟨p, 0, none⟩ = some (.int .i64 v)) :
    Calls Tryd.prog 57 #[.int .i64 (l.length : Int), .func (.func 58) #[] #[.pointer (some ⟨q, 0, none⟩), .pointer (some ⟨p, 0, none⟩)]] w fun e w' => (∃ r : Nat, e = .returned (.int .i64 (r : Int)) ∧ Pl l v r) ∧ Below w.heap.size w w' := by
  have hlq := World.block_lt_of_cell? _ _ hq
  have hlp := World.block_lt_of_cell? _ _ hp
  have HF : Hid (∀ k W (h : k < l.length), Below w.heap.size w W → Calls Tryd.prog 58 #[.int .i64 (k : Int), .pointer (some ⟨q, 0, none⟩), .pointer (some ⟨p, 0, none⟩)] W fun e w' => e = .returned (.bool (decide (v < l[k].s))) ∧ Below W.heap.size W w') := fun k W h hW => at1_any x l v q p k W (hI.below hW) h ((hW.cell hlq).trans hq) ((hW.cell hlp).trans hp)
  have hen := en58
  have HZ : Hid (l.length ≤ 140737488355328) := hz
  clear hI hq hp hlq hlp hz
  go_enter Tryd.func57, Tryd.ntmps57
  go_wp2_with fail
  go_loopw [5, 6] (fun a c wr => ∃ i j : Nat, a = .int .i64 (i : Int) ∧ c = .int .i64 (j : Int) ∧ i ≤ j ∧ j ≤ l.length ∧ Hid ((∀ n (h : n < l.length), n + 1 = i → l[n].s ≤ v) ∧ ∀ h : j < l.length, v < l[j].s) ∧ Hid (Below w.heap.size w wr)) (fun a c _ => (intOf c).toNat - (intOf a).toNat)
  case atStart => exact ⟨0, l.length, rfl, rfl, by omega, by omega, ⟨fun _ _ h => absurd h (by omega), fun h => absurd h (by omega)⟩, Below.refl _ _⟩
  case round =>
    obtain ⟨i, j, rfl, rfl, hij, hj, hno, hb⟩ := hrel
    by_cases hlt : i < j
    · have h1 : (i : Int) < (j : Int) := by omega
      go_wp2_with fail
      obtain ⟨m, hm⟩ : ∃ m : Nat, m = (i + j) / 2 := ⟨_, rfl⟩
      have em : wrap64 (IntKind.u64.wrap (wrap64 ((i : Int) + (j : Int))) / 2) = (m : Int) := by rw [hm]; exact mid_is i j (by have := HZ.out; omega)
      have hml : m < l.length := by omega
      have HM : Hid (i ≤ m ∧ m < j) := ⟨by omega, by omega⟩
      rw [em]
      have hC := HF.out m wr hml hb.out
      clear em hm
      by_cases hv : v < l[m].s
      · have Hv : Hid (v < l[m].s) := hv
        rw [decide_eq_true hv] at hC
        clear hv
        refine hC.mono ?_
        rintro e w1 ⟨rfl, hb1⟩
        have hb2 : Hid (Below w.heap.size w w1) := hb.out.trans (hb1.mono hb.out.size)
        clear hb1 hC
        go_wp2_with fail
        go_roundw
        case rel => exact ⟨i, m, rfl, rfl, HM.out.1, by omega, ⟨hno.out.1, fun _ => Hv.out⟩, hb2.out⟩
        case measure => have := HM.out; simp [intOf]; omega
      · have Hv : Hid (l[m].s ≤ v) := by show _ ≤ _; omega
        rw [decide_eq_false hv] at hC
        clear hv
        refine hC.mono ?_
        rintro e w1 ⟨rfl, hb1⟩
        have hb2 : Hid (Below w.heap.size w w1) := hb.out.trans (hb1.mono hb.out.size)
        have hm9 : m ≤ 140737488355328 := by have := HZ.out; omega
        clear hb1 hC
        go_wp2_with fail
        go_roundw
        case rel =>
          refine ⟨m + 1, j, by first | rfl | simp, rfl, by have := HM.out; omega, hj, ⟨fun n h e => ?_, hno.out.2⟩, hb2.out⟩
          obtain rfl : n = m := by omega
          exact Hv.out
        case measure => have := HM.out; simp [intOf]; omega
    · have h1 : ¬ (i : Int) < (j : Int) := by omega
      go_wp2_with fail
      go_ret
      obtain rfl : i = j := by omega
      exact ⟨⟨i, rfl, hj, hno.out.1, hno.out.2⟩, hb.out⟩
end Go.Proofs.YtcadlpmopplkeaaDoor

