/- State, Cut, Next, mayBear, misplaced, New. -/
import Derived.Test.YtaaocgppniflcaaK1
namespace Go.Proofs.Ytaaocgppniflcaa
open Go.RowKit Go.Maps
set_option linter.unusedVariables false
set_option linter.unusedSimpArgs false

/-- a number of sixty-four bits -/
def I64 (x : Int) : Prop := -9223372036854775808 ≤ x ∧ x ≤ 9223372036854775807
theorem TI.find {w : World} {p b : Nat} {T : Tb} (h : TI w p b T) {id : Int} (hid : I64 id) : (Instr.lookup 59 (.map (some b)) (.int .i64 id) false).run Try.prog w = .ok (.int .i64 ((look T.L id).getD 0)) w := by
  obtain ⟨c, h1, h2, _⟩ := h.mp.lookup_int law2 Try.underlying59 Try.underlying3 (zero3 w) (keyOf_int_mk Try.underlying2 (WalkArith.wf_i64 hid))
  rw [h1]
  rw [at_mD] at h2
  cases hl : look T.L id with
  | none => rw [hl] at h2; simp at h2; rw [← h2]; rfl
  | some v => rw [hl] at h2; simp at h2; rw [← h2]; rfl
theorem TI.find2 {w : World} {p b : Nat} {T : Tb} (h : TI w p b T) {id : Int} (hid : I64 id) : (Instr.lookup 59 (.map (some b)) (.int .i64 id) true).run Try.prog w = .ok (.tuple #[.int .i64 ((look T.L id).getD 0), .bool (look T.L id).isSome]) w := by
  obtain ⟨v, ps, h1, h2⟩ := h.mp.look_ok law2 Try.underlying59 (zero3 w) (plainElem_int (H := Unit) Try.underlying3 (q := .i64) (a := 0) (by decide)) (keyOf_int_mk Try.underlying2 (WalkArith.wf_i64 hid))
  rw [h1, has_mD]
  obtain ⟨c, rfl, hc, hwc⟩ := plainElem_int_inv Try.underlying3 h2
  simp only [Prod.mk.injEq] at hc
  rw [at_mD] at hc
  cases hl : look T.L id with
  | none => rw [hl] at hc; simp at hc; rw [← hc.1]; rfl
  | some v => rw [hl] at hc; simp at hc; rw [← hc.1]; rfl

set_option maxRecDepth 100000 in
set_option maxHeartbeats 1000000 in
theorem cut_any (w : World) (p b : Nat) (T : Tb) (id : Int) (h : TI w p b T) (hid : I64 id) : Calls Try.prog 21 #[.pointer (some ⟨p, 0, none⟩), .int .i64 id] w fun e w' => e = .returned (.bool (T.cut id)) ∧ w' = w := by
  obtain ⟨c0, c1, c2, c3, hp⟩ := h.cells
  have hf := h.find hid
  clear h
  unfold Tb.cut
  generalize (look T.L id).getD 0 = z at hf ⊢
  go_enter Try.func21, Try.ntmps21
  go_wp2
  go_ret
  exact ⟨rfl, rfl⟩

set_option maxRecDepth 100000 in
set_option maxHeartbeats 1000000 in
theorem state_any (w : World) (p b : Nat) (T : Tb) (id : Int) (h : TI w p b T) (hid : I64 id) : Calls Try.prog 14 #[.pointer (some ⟨p, 0, none⟩), .int .i64 id] w fun e w' => e = .returned (.int .i64 (T.st id)) ∧ Below w.heap.size w w' := by
  unfold Tb.st
  cases hs : isStr id
  · rw [if_neg (by decide)]
    go_enter Try.func14, Try.ntmps14
    go_wp2_with fail
    refine (isStream_any id _).mono ?_
    rintro e w1 ⟨rfl, rfl⟩
    rw [hs]
    go_wp2
    go_ret
    exact ⟨rfl, Below.refl _ _⟩
  · rw [if_pos rfl]
    by_cases hl : T.last (T.ours id) < id
    · rw [if_pos hl]
      have hd : decide (T.last (T.ours id) < id) = true := decide_eq_true hl
      clear hl
      go_enter Try.func14, Try.ntmps14
      go_wp2_with fail
      refine (isStream_any id _).mono ?_
      rintro e w1 ⟨rfl, rfl⟩
      rw [hs]
      go_wp2_with fail
      refine (isOurs_any _ p b T id h).mono ?_
      rintro e w1 ⟨rfl, hB⟩
      go_wp2_with fail
      refine (last_any _ p b T _ (h.below hB)).mono ?_
      rintro e w2 ⟨rfl, rfl⟩
      go_wp2
      go_ret
      exact ⟨rfl, hB⟩
    · rw [if_neg hl]
      have hd : decide (T.last (T.ours id) < id) = false := decide_eq_false hl
      clear hl
      cases hk : look T.L id with
      | none =>
        go_enter Try.func14, Try.ntmps14
        go_wp2_with fail
        refine (isStream_any id _).mono ?_
        rintro e w1 ⟨rfl, rfl⟩
        rw [hs]
        go_wp2_with fail
        refine (isOurs_any _ p b T id h).mono ?_
        rintro e w1 ⟨rfl, hB⟩
        go_wp2_with fail
        refine (last_any _ p b T _ (h.below hB)).mono ?_
        rintro e w2 ⟨rfl, rfl⟩
        obtain ⟨c0, c1, c2, c3, hp⟩ := (h.below hB).cells
        have hf := (h.below hB).find2 hid
        rw [hk] at hf
        simp only [Option.getD_none, Option.isSome_none] at hf
        clear h hk
        go_wp2
        go_ret
        exact ⟨rfl, hB⟩
      | some v =>
        go_enter Try.func14, Try.ntmps14
        go_wp2_with fail
        refine (isStream_any id _).mono ?_
        rintro e w1 ⟨rfl, rfl⟩
        rw [hs]
        go_wp2_with fail
        refine (isOurs_any _ p b T id h).mono ?_
        rintro e w1 ⟨rfl, hB⟩
        go_wp2_with fail
        refine (last_any _ p b T _ (h.below hB)).mono ?_
        rintro e w2 ⟨rfl, rfl⟩
        obtain ⟨c0, c1, c2, c3, hp⟩ := (h.below hB).cells
        have hf := (h.below hB).find2 hid
        rw [hk] at hf
        simp only [Option.getD_some, Option.isSome_some] at hf
        clear h hk
        go_wp2
        go_ret
        exact ⟨rfl, hB⟩

set_option maxRecDepth 100000 in
set_option maxHeartbeats 1000000 in
theorem next_any (w : World) (p b : Nat) (T : Tb) (h : TI w p b T) : Calls Try.prog 17 #[.pointer (some ⟨p, 0, none⟩)] w fun e w' => e = .returned (.tuple #[.int .i64 T.next.1, .bool T.next.2]) ∧ w' = w := by
  obtain ⟨c0, c1, c2, c3, hp⟩ := h.cells
  have hlo := h.ok.lo
  clear h
  have fin : ∀ n : Int, (if (T.cl && T.lo == 0) = true then 1 else T.lo + 2) = n → T.next = if isStr n = false then (0, false) else (n, true) := by
    intro n hn
    unfold Tb.next
    rw [hn]
  cases hc : T.cl
  · have hn := fin (T.lo + 2) (by rw [hc]; rfl)
    clear fin
    cases hs : isStr (T.lo + 2)
    · rw [hs, if_pos rfl] at hn
      rw [hn]
      clear hn
      rw [hc] at c0
      clear hc
      go_enter Try.func17, Try.ntmps17
      go_wp2_with fail
      refine (isStream_any _ _).mono ?_
      rintro e w1 ⟨rfl, rfl⟩
      rw [hs]
      go_wp2
      refine bodyPost_ret (results_tmp2 rfl _ _ _) rfl ⟨rfl, rfl⟩
    · rw [hs, if_neg (by decide)] at hn
      rw [hn]
      clear hn
      rw [hc] at c0
      clear hc
      go_enter Try.func17, Try.ntmps17
      go_wp2_with fail
      refine (isStream_any _ _).mono ?_
      rintro e w1 ⟨rfl, rfl⟩
      rw [hs]
      go_wp2
      refine bodyPost_ret (results_tmp2 rfl _ _ _) rfl ⟨rfl, rfl⟩
  · rw [hc] at c0
    by_cases h0 : T.lo = 0
    · have hn := fin 1 (by rw [hc, h0]; rfl)
      rw [if_neg (by decide)] at hn
      rw [hn]
      rw [h0] at c1
      clear fin hn hc h0 hlo
      go_enter Try.func17, Try.ntmps17
      go_wp2_with fail
      refine (isStream_any _ _).mono ?_
      rintro e w1 ⟨rfl, rfl⟩
      rw [show isStr 1 = true from by decide]
      go_wp2
      refine bodyPost_ret (results_tmp2 rfl _ _ _) rfl ⟨rfl, rfl⟩
    · have e0 : (T.lo == 0) = false := beq_eq_false_iff_ne.2 h0
      have hn := fin (T.lo + 2) (by rw [hc, e0]; rfl)
      clear fin h0
      cases hs : isStr (T.lo + 2)
      · rw [hs, if_pos rfl] at hn
        rw [hn]
        clear hn hc
        go_enter Try.func17, Try.ntmps17
        go_wp2_with fail
        refine (isStream_any _ _).mono ?_
        rintro e w1 ⟨rfl, rfl⟩
        rw [hs]
        go_wp2
        refine bodyPost_ret (results_tmp2 rfl _ _ _) rfl ⟨rfl, rfl⟩
      · rw [hs, if_neg (by decide)] at hn
        rw [hn]
        clear hn hc
        go_enter Try.func17, Try.ntmps17
        go_wp2_with fail
        refine (isStream_any _ _).mono ?_
        rintro e w1 ⟨rfl, rfl⟩
        rw [hs]
        go_wp2
        refine bodyPost_ret (results_tmp2 rfl _ _ _) rfl ⟨rfl, rfl⟩

set_option maxRecDepth 100000 in
set_option maxHeartbeats 1000000 in
theorem mayBear_any (w : World) (p b : Nat) (T : Tb) (id : Int) (g : Bool) (k : Int) (h : TI w p b T) : Calls Try.prog 35 #[.pointer (some ⟨p, 0, none⟩), .int .i64 id, .agg #[.bool g, .int .i64 k]] w fun e w' => e = .returned (.bool (T.may id g k)) ∧ Below w.heap.size w w' := by
  obtain ⟨c0, c1, c2, c3, hp⟩ := (h.al (.cells #[.bool g, .int .i64 k] 47)).cells
  clear h
  unfold Tb.may
  have hod := isOdd_any id
  generalize odd id = o at hod ⊢
  generalize T.cl = c at c0 ⊢
  cases o <;> cases c <;> cases g <;> cases e5 : (k == 5) <;>
  · go_enter Try.func35, Try.ntmps35
    go_wp2
    go_quiet (fail)
    go_wp2_with (first | (go_at_call 49; refine (hod _).mono ?_; rintro e w1 ⟨rfl, rfl⟩) | go_in)
    go_ret
    exact ⟨rfl, rfl, rfl, rfl, by simp, (bel1 w _).block⟩

/-- results: a cell's -/
theorem results_c {P : Program} {fn : Func} {p : Tmp} {ty : TypeId} (h : fn.results = #[.cell p ty]) (tmps : Array Value) (w : World) (g : Nat) (t : TypeId) (cs : Array Value) (fr : Nat × Nat) (d : TypeDesc)
    (hp : tmps.getD p undef = .pointer (some ⟨g, 0, none⟩)) (hg : w.heap[g]? = some (.cells cs t fr)) (hu : P.underlying ty = some d) (hd : (match d with | .struct _ | .array _ _ => true | _ => false) = true) (hi : (P.info? ty).map (·.size) = some cs.size) :
    (results fn tmps).run P w = .ok (.agg cs) w := by
  have hp' : tmps[p]?.getD undef = .pointer (some ⟨g, 0, none⟩) := by simpa using hp
  simp [results, h, hp', asAddr, run_loadVar_row w g t ty cs fr d hg hu hd hi]
set_option maxRecDepth 100000 in
set_option maxHeartbeats 1000000 in
theorem misplaced_any (g : Bool) (k : Int) (w : World) : Calls Try.prog 33 #[.agg #[.bool g, .int .i64 k]] w fun e w' => e = .returned (.agg #[.int .i64 (mis g).1, .int .i64 (mis g).2]) ∧ Below w.heap.size w w' := by
  cases g
  · go_enter Try.func33, Try.ntmps33
    go_wp2
    refine bodyPost_ret (results_c (p := 2) (ty := 44) rfl _ _ (w.heap.size + 1) 44 _ (0, 0) _ rfl (fresh2 _ _ _) Try.underlying44 rfl (by kernel_rfl)) rfl ⟨rfl, bel2 _ _ _⟩
  · go_enter Try.func33, Try.ntmps33
    go_wp2
    refine bodyPost_ret (results_c (p := 2) (ty := 44) rfl _ _ (w.heap.size + 1) 44 _ (0, 0) _ rfl (fresh2 _ _ _) Try.underlying44 rfl (by kernel_rfl)) rfl ⟨rfl, bel2 _ _ _⟩

set_option maxRecDepth 100000 in
set_option maxHeartbeats 1000000 in
theorem new_any (c : Bool) (w : World) : Calls Try.prog 8 #[.bool c] w fun e w' => e = .returned (.pointer (some ⟨w.heap.size + 1, 0, none⟩)) ∧ TI w' (w.heap.size + 1) w.heap.size (Tb.new c) ∧ Below w.heap.size w w' ∧ w'.heap.size = w.heap.size + 2 := by
  have hmm := @run_makeMap Try.prog
  go_enter Try.func8, Try.ntmps8
  go_wp2
  go_ret
  refine ⟨rfl, ⟨fresh2 _ _ _, ?_, Tb.new_ok c⟩, bel2 _ _ _, by simp⟩
  exact (World.ownsMap_made w Try.prog 2 (plainElem Try.prog 3)).alloc _
end Go.Proofs.Ytaaocgppniflcaa
