/- isLong. A region that draws, by what holds at each set of its operations; wordsOf's. wordsOf's region that draws: what holds at each set of its operations. wordsOf's region that draws, whole. wordsOf. wordsOf, walked. -/
import Derived.Test.YtghppkfopglgaaaGreatDoorKag
namespace Go.Proofs.YtghppkfopglgaaaGreatDoor
open Go.RowKit Go.Shelf
set_option linter.unusedVariables false
set_option linter.unusedSimpArgs false
attribute [local go_sem] Oper.semAt_some
theorem lines_call (v : ByteArray) (w : World) : Calls Tryz.prog 40 #[.string v] w fun e w' => e = .returned (.func (.func 55) #[] #[.pointer (some ⟨w.heap.size, 0, none⟩)]) ∧ w' = w.alloc (.cells #[.string v] 9) := by
  go_enter Tryz.func40, Tryz.ntmps40
  go_wp2_with fail
  go_ret
  exact ⟨rfl, rfl⟩
def trimB (l : ByteArray) : ByteArray := bt (trimN l.data.toList)
theorem trim_any (l : ByteArray) (w : World) (h : l.size ≤ 140737488355328) : Calls Tryz.prog 41 #[.string l, .string ⟨#[10]⟩] w fun e w' => e = .returned (.string (trimB l)) ∧ w' = w :=
  Tryz.strings_TrimSuffix l ⟨#[10]⟩ w (by omega)
theorem lns_flat : ∀ l : List UInt8, (lns l).flatten = l
  | [] => rfl
  | c :: r => by
    have ih := lns_flat r
    show (if c = 10 then [c] :: lns r else addC c (lns r)).flatten = _
    split
    · simp [ih]
    · cases h : lns r with
      | nil => rw [h] at ih; simp at ih; simp [addC, ← ih]
      | cons x xs => rw [h] at ih; simp only [addC, List.flatten_cons, List.cons_append]; rw [← ih]; simp
theorem lns_ne : ∀ l : List UInt8, ∀ x ∈ lns l, x ≠ []
  | [], x, h => absurd h (by simp [lns])
  | c :: r, x, h => by
    have ih := lns_ne r
    have h2 : x ∈ (if c = 10 then [c] :: lns r else addC c (lns r)) := h
    split at h2
    · rcases List.mem_cons.1 h2 with rfl | h2
      · simp
      · exact ih x h2
    · cases e : lns r with
      | nil => rw [e] at h2; simp [addC] at h2; rw [h2]; simp
      | cons y ys =>
        rw [e] at h2
        rcases List.mem_cons.1 h2 with rfl | h2
        · simp
        · exact ih x (by rw [e]; simp [h2])
theorem flat_len (L : List (List UInt8)) (h : ∀ x ∈ L, x ≠ []) : L.length ≤ L.flatten.length ∧ ∀ x ∈ L, x.length ≤ L.flatten.length := by
  induction L with
  | nil => simp
  | cons a L ih =>
    obtain ⟨h1, h2⟩ := ih (fun x hx => h x (by simp [hx]))
    have := List.length_pos_iff.2 (h a (by simp))
    simp only [List.length_cons, List.flatten_cons, List.length_append]
    refine ⟨by omega, fun x hx => ?_⟩
    rcases List.mem_cons.1 hx with rfl | hx
    · omega
    · have := h2 x hx; omega
theorem lnB_len (s : ByteArray) : (lnB s).length ≤ s.size ∧ ∀ x ∈ lnB s, x.size ≤ s.size := by
  obtain ⟨h1, h2⟩ := flat_len (lns s.data.toList) (lns_ne _)
  rw [lns_flat, ← sz_eq] at h1 h2
  unfold lnB
  refine ⟨by rw [List.length_map]; exact h1, fun x hx => ?_⟩
  obtain ⟨y, hy, rfl⟩ := List.mem_map.1 hx
  rw [sz_eq, bt_toList]
  exact h2 y hy
/-- some line is too long -/
def lgL (l : List ByteArray) : Bool := l.any fun x => decide (4096 < (trimB x).size)
theorem longB_eq (s : ByteArray) : longB s.data.toList = (decide (65536 < s.size) || lgL (lnB s) || decide (1024 < (lnB s).length)) := by
  unfold longB lgL lnB
  rw [sz_eq, List.length_map, List.any_map]
  congr 3
theorem dl_one {L : Nat} {W : World} (h : W.heap[L]? = some (.deferred (some []))) : Dl [{ target := .collected L, args := #[] }] W := ⟨⟨L, rfl, h, fun d hd => absurd hd (by simp)⟩, trivial⟩
theorem leaves_bool (w : World) (tm : Array Value) (g : Nat) (v : Bool) (ds : List Deferred) (W : World) (h2 : tm.getD 2 undef = .pointer (some ⟨g, 0, none⟩)) (hg : W.heap[g]? = some (.cells #[.bool v] 4 (0, 0))) (hd : Dl ds W) (hw : Below w.heap.size w W) (hlo : ∀ d ∈ ds, ∀ k, d.target = .collected k → w.heap.size ≤ k) {r : Bool} (hr : v = r) :
    LeavesInM Fence.wide 3 Tryz.prog Tryz.f24 tm (fun e w' => e = .returned (.bool r) ∧ Below w.heap.size w w') ds .returning W := by
  subst hr
  refine leaves_marks ds W hd fun W' hW' => ⟨.bool v, ?_, rfl, ?_⟩
  · have h2' : tm[2]?.getD undef = .pointer (some ⟨g, 0, none⟩) := by rw [← h2]; simp
    have hg' : W'.heap[g]? = some (.cells #[.bool v] 4 (0, 0)) := by
      refine (hW'.block g (heap_lt hg) ?_).trans hg
      rintro ⟨d, h1, h3⟩
      have := (hd.lt d h1 g h3).2
      rw [hg] at this
      cases this
    have hc := cell_blk hg' 0
    simp only [List.getElem?_toArray, List.getElem?_cons_zero] at hc
    simp [results, Tryz.f24, go_sem, h2', hc]
  · refine hw.trans (hW'.below hw.size fun k hk => ?_)
    rintro ⟨d, h1, h3⟩
    have := hlo d h1 k h3
    omega
set_option maxRecDepth 100000 in
set_option maxHeartbeats 8000000 in
theorem isLong_in (s : ByteArray) (hs : s.size ≤ 140737488355328) (w : World) : CallsIn Fence.wide 3 Tryz.prog 24 #[.string s] w fun e w' => e = .returned (.bool (longB s.data.toList)) ∧ Below w.heap.size w w' := by
  by_cases hb : 65536 < s.size
  · have hL : Hid (longB s.data.toList = true) := by show _ = _; rw [longB_eq]; simp [hb]
    have hbi : (65536 : Int) < (s.size : Int) := by omega
    have hbi2 : (s.size : Int) > 65536 := hbi
    clear hb hs
    refine callsIn_of_wp_marks Tryz.func24 rfl trivial ?_ rfl
    simp only [Tryz.ntmps24, List.size_toArray, List.length_cons, List.length_nil, Nat.reduceAdd, Nat.reduceSub, Array.replicate_succ, Array.replicate_zero, List.push_toArray, List.append_toArray, List.nil_append, List.cons_append]
    have HLv := hid (leaves_bool w)
    gi_wp2
    exact HLv.out _ _ _ [] _ rfl (by rw [heap_al, if_pos rfl]) trivial (bel1 _ _) (fun d hd => absurd hd (by simp)) (by rw [hL.out])
  · have hbi : ¬ (65536 : Int) < (s.size : Int) := by omega
    have hbi2 : ¬ (s.size : Int) > 65536 := hbi
    have HLB : Hid (longB s.data.toList = (lgL (lnB s) || decide (1024 < (lnB s).length))) := by show _ = _; rw [longB_eq]; simp [hb]
    have HS := hid hs
    have HLv := hid (leaves_bool w)
    obtain ⟨g, hg⟩ : ∃ g, w.heap.size = g := ⟨_, rfl⟩
    have HG := hid hg
    clear hs hb
    refine callsIn_of_wp_marks Tryz.func24 rfl trivial ?_ rfl
    simp only [Tryz.ntmps24, List.size_toArray, List.length_cons, List.length_nil, Nat.reduceAdd, Nat.reduceSub, Array.replicate_succ, Array.replicate_zero, List.push_toArray, List.append_toArray, List.nil_append, List.cons_append]
    gi_wp2_with (refine ⟨trivial, ?_⟩; gi_at_call 40; refine (callsIn_wide.2 (lines_call s _)).mono ?_; rintro e w1 ⟨rfl, hw⟩; subst hw)
    try rw [hg]
    obtain ⟨W0, hW0⟩ : ∃ W0, ((w.alloc (.cells #[.bool false] 4)).alloc (.cells #[.int .i64 0] 3)).alloc (.cells #[.string s] 9) = W0 := ⟨_, rfl⟩
    have z0 : W0.heap.size = g + 3 := by rw [← hW0, ← hg]; simp
    have g0 : W0.heap[g]? = some (.cells #[.bool false] 4 (0, 0)) := by rw [← hW0, heap_al, if_neg (by simp; omega), heap_al, if_neg (by simp; omega), heap_al, if_pos hg.symm]
    have g1 : W0.heap[g + 1]? = some (.cells #[.int .i64 0] 3 (0, 0)) := by rw [← hW0, heap_al, if_neg (by simp; omega), heap_al, if_pos (by simp; omega)]
    have g2 : W0.heap[g + 1 + 1]? = some (.cells #[.string s] 9 (0, 0)) := by rw [← hW0, heap_al, if_pos (by simp; omega)]
    have b0 : Below g w W0 := by rw [← hW0, ← hg]; exact bel3 _ _ _ _
    rw [hW0]
    refine range_lines (bs := g + 1 + 1) (s := s) rfl g2 HS.out
      (fun pre W => (W.heap[g]? = some (.cells #[.bool false] 4 (0, 0)) ∧ W.heap[g + 1]? = some (.cells #[.int .i64 (pre.length : Int)] 3 (0, 0))) ∧ Below g w W ∧ lgL pre = false)
      (fun W => W.heap[g]? = some (.cells #[.bool true] 4 (0, 0)) ∧ Below g w W ∧ lgL (lnB s) = true)
      (fun x a => ∃ t, a = { tmps := t, defers := [] } ∧ t = #[.string s, undef, .pointer (some ⟨g, 0, none⟩), .pointer (some ⟨g + 1, 0, none⟩), .string x, .string s, .int .i64 (s.size : Int), .bool false, .string s, .func (.func 55) #[] #[.pointer (some ⟨g + 1 + 1, 0, none⟩)], .string x, undef, undef, undef, undef, undef, undef, undef, undef])
      (fun pre W W' h hk => ?_) (fun W W' h hk => ?_) ⟨⟨g0, g1⟩, b0, rfl⟩ (fun l x W K hK => ?_) (fun l pre x r a₁ W hpx hI hA hsz => ?_) (fun W hI hd => ?_) (fun W hX hd => ?_)
    case refine_1 =>
      obtain ⟨⟨h1, h2⟩, h3, h4⟩ := h
      have hl : g + 1 < W.heap.size := heap_lt h2
      exact ⟨⟨(hk.block g (by omega) (by omega)).trans h1, (hk.block _ (by omega) (by omega)).trans h2⟩, h3.trans (hk.below (by omega) (fun i hi => by omega)), h4⟩
    case refine_2 =>
      obtain ⟨h1, h3, h4⟩ := h
      have hl : g < W.heap.size := heap_lt h1
      exact ⟨(hk.block g hl (by omega)).trans h1, h3.trans (hk.below (by omega) (fun i hi => by omega)), h4⟩
    case refine_3 =>
      have HK := hid hK
      clear hK
      gi_wp2
      exact HK.out _ ⟨_, rfl, rfl⟩
    case refine_4 =>
      obtain ⟨t, rfl, rfl⟩ := hA
      obtain ⟨⟨h1, h2⟩, h3, h4⟩ := hI
      have hmem : x ∈ lnB s := by rw [← hpx]; simp
      have hxs := (lnB_len s).2 x hmem
      have hpl : pre.length + 1 ≤ (lnB s).length := by rw [← hpx]; simp
      have hpl2 := (lnB_len s).1
      have HT := hid (fun V => trim_any x V (by have := HS.out; omega))
      obtain ⟨n, hn⟩ : ∃ n, pre.length = n := ⟨_, rfl⟩
      have hw1 : wrap64 ((n : Int) + 1) = (n : Int) + 1 := by have := HS.out; unfold wrap64; omega
      have c1 := cell_blk h2 0
      have f1 := frozen_blk h2 0
      have c0 := cell_blk h1 0
      have f0 := frozen_blk h1 0
      have l1 := heap_lt h2
      have l0 := heap_lt h1
      simp only [List.getElem?_toArray, List.getElem?_cons_zero] at c0 c1
      rw [hn] at c1
      obtain ⟨V, hV⟩ : ∃ V, W.setCell ⟨g + 1, 0, none⟩ (.int .i64 ((n : Int) + 1)) = V := ⟨_, rfl⟩
      have v1 : V.heap[g + 1]? = some (.cells #[.int .i64 ((n : Int) + 1)] 3 (0, 0)) := by rw [← hV, setCell_block _ _ _ _ _ _ _ h2]; rfl
      have vo : ∀ k, k ≠ g + 1 → V.heap[k]? = W.heap[k]? := fun k hk => by rw [← hV]; exact setCell_other _ _ _ _ _ hk
      have vs : V.heap.size = W.heap.size := by rw [← hV]; simp [World.setCell]
      have v0 : V.heap[g]? = some (.cells #[.bool false] 4 (0, 0)) := (vo g (by omega)).trans h1
      have vb : Below g w V := by rw [← hV]; exact h3.setCell (p := ⟨g + 1, 0, none⟩) (by show g ≤ g + 1; omega) _
      have VJ := hid (And.intro v1 (And.intro v0 (And.intro vb (And.intro vs vo))))
      have d0 := cell_blk v0 0
      have e0 := frozen_blk v0 0
      simp only [List.getElem?_toArray, List.getElem?_cons_zero] at d0
      have HV := hid hV
      by_cases hlong : 4096 < (trimB x).size
      · have hli : (4096 : Int) < ((trimB x).size : Int) := by omega
        have hli2 : ((trimB x).size : Int) > 4096 := hli
        have HL : Hid (lgL (lnB s) = true) := by
          show _ = _
          unfold lgL
          rw [List.any_eq_true]
          exact ⟨x, hmem, by simpa using hlong⟩
        clear hmem hxs hpl hpl2 h1 h2 h3 h4 hpx hlong v1 vo vs v0 vb
        gi_wp2_with (refine ⟨trivial, ?_⟩; gi_at_call 41; (try rw [hV]); refine (callsIn_wide.2 (HT.out _)).mono ?_; rintro e w1 ⟨rfl, hw⟩; subst hw)
        obtain ⟨u1, u0, ub, us, uo⟩ := VJ.out
        have hzW0 : W0.heap.size = g + 3 := z0
        try rw [HV.out]
        have vv : ∀ k, k ≠ g → (w1.setCell ⟨g, 0, none⟩ (.bool true)).heap[k]? = w1.heap[k]? := fun k hk => setCell_other _ _ _ _ _ hk
        refine ⟨⟨⟨?_, ?_⟩, ?_, ?_⟩, ?_, ?_, HL.out⟩
        · show W.heap.size ≤ _
          simp [World.setCell] at us ⊢
          omega
        · exact (vv _ (by omega)).trans (uo _ (by omega))
        · exact (vv _ (by omega)).trans (uo _ (by omega))
        · exact (vv _ (by omega)).trans (uo _ (by omega))
        · rw [setCell_block _ _ _ _ _ _ _ u0]; rfl
        · exact ub.setCell (p := ⟨g, 0, none⟩) (Nat.le_refl _) _
      · have hli : ¬ (4096 : Int) < ((trimB x).size : Int) := by omega
        have hli2 : ¬ ((trimB x).size : Int) > 4096 := hli
        have HL : Hid (lgL (pre ++ [x]) = false) := by
          show _ = _
          unfold lgL at h4 ⊢
          rw [List.any_append, h4]
          simpa using hlong
        have HN : Hid (((pre ++ [x]).length : Int) = (n : Int) + 1) := by show _ = _; rw [← hn]; simp
        clear hmem hxs hpl hpl2 h1 h2 h3 h4 hpx hlong v1 vo vs v0 vb
        gi_wp2_with (refine ⟨trivial, ?_⟩; gi_at_call 41; (try rw [hV]); refine (callsIn_wide.2 (HT.out _)).mono ?_; rintro e w1 ⟨rfl, hw⟩; subst hw)
        obtain ⟨u1, u0, ub, us, uo⟩ := VJ.out
        have hzW0 : W0.heap.size = g + 3 := z0
        try rw [HV.out]
        refine ⟨⟨⟨Nat.le_of_eq us.symm, uo _ (by omega)⟩, uo _ (by omega), uo _ (by omega)⟩, ⟨u0, by rw [HN.out]; exact u1⟩, ub, HL.out⟩
    case refine_5 =>
      obtain ⟨⟨h1, h2⟩, h3, h4⟩ := hI
      have c1 := cell_blk h2 0
      have f1 := frozen_blk h2 0
      have c0 := cell_blk h1 0
      have f0 := frozen_blk h1 0
      have l1 := heap_lt h2
      have l0 := heap_lt h1
      simp only [List.getElem?_toArray, List.getElem?_cons_zero] at c0 c1
      obtain ⟨n, hn⟩ : ∃ n, (lnB s).length = n := ⟨_, rfl⟩
      have HR : Hid (longB s.data.toList = decide (1024 < n)) := by show _ = _; rw [HLB.out, h4, hn]; rfl
      rw [hn] at c1
      have H1 := hid h1
      have H3 := hid h3
      have HD := hid hd
      have HEND : Hid (∀ (tm : Array Value) (r : Bool), tm.getD 2 undef = .pointer (some ⟨g, 0, none⟩) → r = decide (1024 < n) → LeavesInM Fence.wide 3 Tryz.prog Tryz.f24 tm (fun e w' => e = .returned (.bool (longB s.data.toList)) ∧ Below w.heap.size w w') [{ target := .collected W0.heap.size, args := #[] }] .returning (W.setCell ⟨g, 0, none⟩ (.bool r))) := fun tm r ht hr => by
        have hz : W0.heap.size ≠ g := by omega
        refine HLv.out tm g r [{ target := .collected W0.heap.size, args := #[] }] (W.setCell ⟨g, 0, none⟩ (.bool r)) ht (by rw [setCell_block _ _ _ _ _ _ _ H1.out]; rfl) (dl_one (by rw [setCell_other _ _ _ _ _ hz]; exact HD.out)) (by rw [HG.out]; exact H3.out.setCell (p := ⟨g, 0, none⟩) (Nat.le_refl _) _) (fun d hd k hk => ?_) (by rw [HR.out, hr])
        rw [List.mem_singleton.1 hd] at hk
        simp at hk
        rw [HG.out]
        omega
      clear h1 h2 h3 h4 hd hn
      by_cases hlt : 1024 < n
      · have a1 : (1024 : Int) < (n : Int) := by omega
        have a2 : (n : Int) > 1024 := a1
        have HE := hid fun tm ht => HEND.out tm true ht (by simp [hlt])
        clear HEND HR z0 hg
        gi_wp2
        refine HE.out _ ?_
        rfl
      · have a1 : ¬ (1024 : Int) < (n : Int) := by omega
        have a2 : ¬ (n : Int) > 1024 := a1
        have HE := hid fun tm ht => HEND.out tm false ht (by simp [hlt])
        clear HEND HR z0 hg
        gi_wp2
        refine HE.out _ ?_
        rfl
    case refine_6 =>
      obtain ⟨h1, h3, h4⟩ := hX
      have HE := hid (fun (tm : Array Value) (ht : tm.getD 2 undef = .pointer (some ⟨g, 0, none⟩)) => HLv.out tm g true [{ target := .collected W0.heap.size, args := #[] }] W ht h1 (dl_one hd) (by rw [HG.out]; exact h3) (fun d hd k hk => by
        rw [List.mem_singleton.1 hd] at hk
        simp at hk
        rw [HG.out]
        omega) (r := longB s.data.toList) (by rw [HLB.out, h4]; rfl))
      clear h1 h3 h4 hd z0 hg
      gi_wp2
      refine HE.out _ ?_
      rfl
theorem isLong_any (s : ByteArray) (hs : s.size ≤ 140737488355328) (w : World) : Calls Tryz.prog 24 #[.string s] w fun e w' => e = .returned (.bool (longB s.data.toList)) ∧ Below w.heap.size w w' := callsIn_wide.1 (isLong_in s hs w)
end Go.Proofs.YtghppkfopglgaaaGreatDoor
namespace Go.Proofs.YtghppkfopglgaaaGreatDoor
open Go.RowKit Go.Shelf
set_option linter.unusedVariables false
set_option linter.unusedSimpArgs false
attribute [local go_sem] Oper.semAt_some
theorem count_set : ∀ (l : List Bool) (i : Nat), l[i]? = some false → (l.set i true).count false + 1 = l.count false
  | [], i, h => by simp at h
  | a :: l, 0, h => by
    simp at h
    subst h
    simp
  | a :: l, i + 1, h => by
    simp only [List.getElem?_cons_succ] at h
    simp only [List.set_cons_succ, List.count_cons]
    have := count_set l i h
    omega
theorem wpAnyIn_inv {F : Fence} {n : Nat} {P : Program} {md : Region.Mode} {ops : Array Oper} {Q : Exit → Act → World → Prop} {I : Array Bool → Act → World → Prop}
    (hstep : ∀ L a w, I L a w → ∀ i, i ∈ Region.ready md ops L → wpOpIn F n P ops Q i (I (L.setIfInBounds i true)) a w)
    (hdone : ∀ L a w, I L a w → Region.ready md ops L = [] → Q .normal a w) : ∀ (fuel : Nat) (L : Array Bool) (a : Act) (w : World), L.toList.count false ≤ fuel → I L a w → wpAnyIn F n P md ops Q fuel L a w
  | 0, L, a, w, hf, hi => by
    have hr : Region.ready md ops L = [] := by
      apply List.eq_nil_iff_forall_not_mem.2
      intro i h
      obtain ⟨h1, _⟩ := mem_ready.1 h
      have h0 : false ∉ L.toList := List.count_eq_zero.1 (by omega)
      by_cases hl : i < L.size
      · have e : L[i] = false := by simpa [Array.getD, hl] using h1
        exact h0 (by rw [← e]; simp)
      · simp [Array.getD, hl] at h1
    exact ⟨hr, hdone L a w hi hr⟩
  | fuel + 1, L, a, w, hf, hi => by
    refine ⟨fun h => hdone L a w hi h, fun i h => ?_⟩
    refine wpOpIn_mono (fun a' w' h' => ?_) (hstep L a w hi i h)
    refine wpAnyIn_inv hstep hdone fuel _ a' w' ?_ h'
    obtain ⟨h1, _⟩ := mem_ready.1 h
    by_cases hl : i < L.size
    · have e : L.toList[i]? = some false := by
        have : L[i] = false := by simpa [Array.getD, hl] using h1
        simp [hl, this]
      have := count_set _ _ e
      rw [Array.toList_setIfInBounds]
      omega
    · simp [Array.getD, hl] at h1
theorem stepIn_append_run {F : Fence} {n : Nat} {P : Program} {ops : Array Oper} {o : Oper} {a : Act} {w : World} {K : Act → World → Prop} {Q : Exit → Act → World → Prop} {R : Prop}
    (hg : o.guard = none) (s x : Operand) (t tn : TypeId) (ho : o.op = .call { callee := .builtin .append, args := #[s, x], argTypes := #[t, tn] })
    {vs vx v' : Value} {w' : World} (hr : (Builtin.append_ #[t, tn] o.type #[vs, vx]).run P w = .ok v' w') (hs : a.eval s = vs) (hx : a.eval x = vx)
    (hK : K (a.put o.dst v') w') : if Region.wanted o (yielded ops a.tmps) = true then Oper.wpIn F n P o a w K Q else R := by
  have hw : Region.wanted o (yielded ops a.tmps) = true := by simp [Region.wanted, hg]
  rw [if_pos hw]
  unfold Oper.wpIn
  refine ⟨?_, ?_⟩
  · simp [Oper.about, ho, resolve, Target.leads, Sem.run_pure]
  · rw [Oper.semAt_plain F _ _ (by rw [ho]; intro c hc; cases hc)]
    simp [execOp, ho, resolve, invoke, builtin, hs, hx, hr, Result.andThen]
    exact hK
def ops26_6 : Array Oper := #[{ dst := some 16, op := Op.load 88 (Operand.tmp 3), type := 88, pos := "word.go:35", after := #[], guard := none },
  { dst := some 17, op := Op.move (Operand.tmp 4), type := 9, pos := "word.go:35", after := #[], guard := none },
  { dst := some 18, op := Op.call { callee := Callee.value (Operand.func 44), args := #[Operand.tmp 17], argTypes := #[9] }, type := 88, pos := "word.go:35", after := #[{ on := 1, ground := Ground.data }], guard := none },
  { dst := some 19, op := Op.call { callee := Callee.builtin Builtin.append, args := #[Operand.tmp 16, Operand.tmp 18], argTypes := #[88, 88] }, type := 88, pos := "word.go:35", after := #[{ on := 0, ground := Ground.data }, { on := 2, ground := Ground.data }, { on := 2, ground := Ground.chain }], guard := none },
  { dst := some 20, op := Op.build 115 #[(0, Operand.const (Value.int IntKind.i64 2))], type := 115, pos := "word.go:35", after := #[], guard := none },
  { dst := some 21, op := Op.buildSlice 88 1 #[(0, Operand.tmp 20)], type := 88, pos := "word.go:35", after := #[{ on := 4, ground := Ground.data }], guard := none },
  { dst := some 22, op := Op.call { callee := Callee.builtin Builtin.append, args := #[Operand.tmp 19, Operand.tmp 21], argTypes := #[88, 88] }, type := 88, pos := "word.go:35", after := #[{ on := 3, ground := Ground.data }, { on := 5, ground := Ground.data }, { on := 3, ground := Ground.chain }], guard := none },
  { dst := none, op := Op.store 88 (Operand.tmp 3) (Operand.tmp 22), type := 0, pos := "word.go:35", after := #[{ on := 6, ground := Ground.data }, { on := 6, ground := Ground.chain }, { on := 0, ground := Ground.phase }, { on := 1, ground := Ground.phase }, { on := 2, ground := Ground.phase }, { on := 3, ground := Ground.phase }, { on := 4, ground := Ground.phase }, { on := 5, ground := Ground.phase }, { on := 6, ground := Ground.phase }], guard := none }]
end Go.Proofs.YtghppkfopglgaaaGreatDoor
namespace Go.Proofs.YtghppkfopglgaaaGreatDoor
open Go.RowKit Go.Shelf
set_option linter.unusedVariables false
set_option linter.unusedSimpArgs false
attribute [local go_sem] Oper.semAt_some
/-- what holds: the row at hand, a line's words, the end's, and what is put together -/
structure Z6 (w0 : World) (g m : Nat) (v : Value) (acc ws : List Wd) (y : ByteArray) (b0 b1 b2 b3 b4 b5 b6 b7 : Bool) (x16 x17 x18 x19 x20 x21 x22 : Value) (W : World) : Prop where
  i0 : b0 = true → x16 = v
  i1 : b1 = true → x17 = .string y
  i2 : b2 = true → b3 = false → R EW W x18 ws
  i3 : b3 = true → b6 = false → R EW W x19 (acc ++ ws) ∧ ∀ k, x19.ownBlock = some k → m ≤ k
  n3 : b3 = false → R EW W v acc ∧ ∀ k, v.ownBlock = some k → m ≤ k
  i4 : b4 = true → x20 = .agg #[.int .i64 2, .string ⟨#[]⟩]
  i5 : b5 = true → b6 = false → ∃ B, x21 = .slice (some ⟨B, 0, none⟩) 1 1 ∧ W.heap[B]? = some (.cells #[.int .i64 2, .string ⟨#[]⟩] 115 (0, 0)) ∧ (b3 = false → v.ownBlock ≠ some B)
  i6 : b6 = true → R EW W x22 (acc ++ ws ++ [⟨2, noS⟩]) ∧ ∀ k, x22.ownBlock = some k → m ≤ k
  box : W.heap[g]? = some (.cells #[if b7 then x22 else v] 88 (0, 0))
  kp : Ks (fun k => k = g ∨ m ≤ k) w0 W
  gm : g < m
  wm : m ≤ w0.heap.size
  c7 : b7 = true → b0 = true ∧ b6 = true
  c6 : b6 = true → b3 = true ∧ b5 = true
def I6 (w0 : World) (g m : Nat) (v : Value) (acc ws : List Wd) (y : ByteArray) (t0 t1 t2 t5 t6 t7 t8 t9 t10 t11 t12 t13 t14 t15 t23 : Value) (L : Array Bool) (a : Act) (W : World) : Prop :=
  ∃ b0 b1 b2 b3 b4 b5 b6 b7 x16 x17 x18 x19 x20 x21 x22, L = #[b0, b1, b2, b3, b4, b5, b6, b7] ∧ a = { tmps := #[t0, t1, t2, .pointer (some ⟨g, 0, none⟩), .string y, t5, t6, t7, t8, t9, t10, t11, t12, t13, t14, t15, x16, x17, x18, x19, x20, x21, x22, t23], defers := [] } ∧ Z6 w0 g m v acc ws y b0 b1 b2 b3 b4 b5 b6 b7 x16 x17 x18 x19 x20 x21 x22 W
theorem z6_0 (l : Nat) (Q : Exit → Act → World → Prop) (w0 : World) (g m : Nat) (v : Value) (acc ws : List Wd) (y : ByteArray) (t0 t1 t2 t5 t6 t7 t8 t9 t10 t11 t12 t13 t14 t15 t23 : Value) (b1 b2 b3 b4 b5 b6 b7 : Bool) (x16 x17 x18 x19 x20 x21 x22 : Value) (W : World) (hZ : Z6 w0 g m v acc ws y false b1 b2 b3 b4 b5 b6 b7 x16 x17 x18 x19 x20 x21 x22 W) :
    wpOpIn (Fence.wide.inRound l) 1 Tryz.prog ops26_6 Q 0 (I6 w0 g m v acc ws y t0 t1 t2 t5 t6 t7 t8 t9 t10 t11 t12 t13 t14 t15 t23 #[true, b1, b2, b3, b4, b5, b6, b7]) { tmps := #[t0, t1, t2, .pointer (some ⟨g, 0, none⟩), .string y, t5, t6, t7, t8, t9, t10, t11, t12, t13, t14, t15, x16, x17, x18, x19, x20, x21, x22, t23], defers := [] } W := by
  refine wpOpIn_step (o := { dst := some 16, op := Op.load 88 (Operand.tmp 3), type := 88, pos := "word.go:35", after := #[], guard := none }) rfl (fun K hK => ?_)
  have HK := hid hK
  clear hK
  have hb7 : b7 = false := by cases b7; rfl; exact absurd (hZ.c7 rfl).1 (by simp)
  subst hb7
  have c0 := cell_blk hZ.box 0
  have f0 := frozen_blk hZ.box 0
  simp only [List.getElem?_toArray, List.getElem?_cons_zero, Bool.false_eq_true, if_false] at c0
  have l0 := heap_lt hZ.box
  have HZ := hid hZ
  clear hZ
  gi_wp2
  obtain ⟨i0, i1, i2, i3, n3, i4, i5, i6, box, kp, gm, wm, c7, c6⟩ := HZ.out
  exact HK.out _ _ ⟨_, _, _, _, _, _, _, _, _, _, _, _, _, _, _, rfl, rfl, ⟨fun _ => rfl, i1, i2, i3, n3, i4, i5, i6, box, kp, gm, wm, fun h => absurd h (by simp), c6⟩⟩
theorem z6_1 (l : Nat) (Q : Exit → Act → World → Prop) (w0 : World) (g m : Nat) (v : Value) (acc ws : List Wd) (y : ByteArray) (t0 t1 t2 t5 t6 t7 t8 t9 t10 t11 t12 t13 t14 t15 t23 : Value) (b0 b2 b3 b4 b5 b6 b7 : Bool) (x16 x17 x18 x19 x20 x21 x22 : Value) (W : World) (hZ : Z6 w0 g m v acc ws y b0 false b2 b3 b4 b5 b6 b7 x16 x17 x18 x19 x20 x21 x22 W) :
    wpOpIn (Fence.wide.inRound l) 1 Tryz.prog ops26_6 Q 1 (I6 w0 g m v acc ws y t0 t1 t2 t5 t6 t7 t8 t9 t10 t11 t12 t13 t14 t15 t23 #[b0, true, b2, b3, b4, b5, b6, b7]) { tmps := #[t0, t1, t2, .pointer (some ⟨g, 0, none⟩), .string y, t5, t6, t7, t8, t9, t10, t11, t12, t13, t14, t15, x16, x17, x18, x19, x20, x21, x22, t23], defers := [] } W := by
  refine wpOpIn_step (o := { dst := some 17, op := Op.move (Operand.tmp 4), type := 9, pos := "word.go:35", after := #[], guard := none }) rfl (fun K hK => ?_)
  have HK := hid hK
  clear hK
  have HZ := hid hZ
  clear hZ
  gi_wp2
  obtain ⟨i0, i1, i2, i3, n3, i4, i5, i6, box, kp, gm, wm, c7, c6⟩ := HZ.out
  exact HK.out _ _ ⟨_, _, _, _, _, _, _, _, _, _, _, _, _, _, _, rfl, rfl, ⟨i0, fun _ => rfl, i2, i3, n3, i4, i5, i6, box, kp, gm, wm, c7, c6⟩⟩
theorem z6_2 (l : Nat) (Q : Exit → Act → World → Prop) (w0 : World) (g m : Nat) (v : Value) (acc : List Wd) (y : ByteArray) (t0 t1 t2 t5 t6 t7 t8 t9 t10 t11 t12 t13 t14 t15 t23 : Value) (hy : y.size ≤ 1048576) (b0 b3 b4 b5 b6 b7 : Bool) (x16 x17 x18 x19 x20 x21 x22 : Value) (W : World) (hZ : Z6 w0 g m v acc ((wol y.data.toList).getD []) y b0 true false b3 b4 b5 b6 b7 x16 x17 x18 x19 x20 x21 x22 W) :
    wpOpIn (Fence.wide.inRound l) 1 Tryz.prog ops26_6 Q 2 (I6 w0 g m v acc ((wol y.data.toList).getD []) y t0 t1 t2 t5 t6 t7 t8 t9 t10 t11 t12 t13 t14 t15 t23 #[b0, true, true, b3, b4, b5, b6, b7]) { tmps := #[t0, t1, t2, .pointer (some ⟨g, 0, none⟩), .string y, t5, t6, t7, t8, t9, t10, t11, t12, t13, t14, t15, x16, x17, x18, x19, x20, x21, x22, t23], defers := [] } W := by
  refine wpOpIn_step (o := { dst := some 18, op := Op.call { callee := Callee.value (Operand.func 44), args := #[Operand.tmp 17], argTypes := #[9] }, type := 88, pos := "word.go:35", after := #[{ on := 1, ground := Ground.data }], guard := none }) rfl (fun K hK => ?_)
  have HK := hid hK
  clear hK
  have hx := hZ.i1 rfl
  subst hx
  have HZ := hid hZ
  have HW := hid (wordsOfLine_any y hy W)
  clear hZ
  gi_wp2_with (refine ⟨trivial, ?_⟩; gi_at_call 44; refine (callsIn_wide.2 HW.out).mono ?_; rintro e w1 ⟨z, rfl, hR, hown, hbel⟩)
  obtain ⟨i0, i1, i2, i3, n3, i4, i5, i6, box, kp, gm, wm, c7, c6⟩ := HZ.out
  refine HK.out _ _ ⟨_, _, _, _, _, _, _, _, _, _, _, _, _, _, _, rfl, rfl, ⟨i0, i1, fun _ _ => hR, fun h h' => ⟨(i3 h h').1.below hbel, (i3 h h').2⟩, fun h => ⟨(n3 h).1.below hbel, (n3 h).2⟩, i4, fun h h' => ?_, fun h => ⟨(i6 h).1.below hbel, (i6 h).2⟩, (hbel.block _ (heap_lt box)).trans box, kp.trans (Ks.of_below hbel) (fun _ _ h => h) (fun _ _ h => h), gm, wm, c7, c6⟩⟩
  obtain ⟨B, h1, h2, h3⟩ := i5 h h'
  exact ⟨B, h1, (hbel.block _ (heap_lt h2)).trans h2, h3⟩
theorem z6_3 (l : Nat) (Q : Exit → Act → World → Prop) (w0 : World) (g m : Nat) (v : Value) (acc ws : List Wd) (y : ByteArray) (t0 t1 t2 t5 t6 t7 t8 t9 t10 t11 t12 t13 t14 t15 t23 : Value) (hlen : (acc.length + ws.length + 1) * 24 ≤ 140737488355328) (b1 b4 b5 b6 b7 : Bool) (x16 x17 x18 x19 x20 x21 x22 : Value) (W : World) (hZ : Z6 w0 g m v acc ws y true b1 true false b4 b5 b6 b7 x16 x17 x18 x19 x20 x21 x22 W) :
    wpOpIn (Fence.wide.inRound l) 1 Tryz.prog ops26_6 Q 3 (I6 w0 g m v acc ws y t0 t1 t2 t5 t6 t7 t8 t9 t10 t11 t12 t13 t14 t15 t23 #[true, b1, true, true, b4, b5, b6, b7]) { tmps := #[t0, t1, t2, .pointer (some ⟨g, 0, none⟩), .string y, t5, t6, t7, t8, t9, t10, t11, t12, t13, t14, t15, x16, x17, x18, x19, x20, x21, x22, t23], defers := [] } W := by
  refine wpOpIn_step (o := { dst := some 19, op := Op.call { callee := Callee.builtin Builtin.append, args := #[Operand.tmp 16, Operand.tmp 18], argTypes := #[88, 88] }, type := 88, pos := "word.go:35", after := #[{ on := 0, ground := Ground.data }, { on := 2, ground := Ground.data }, { on := 2, ground := Ground.chain }], guard := none }) rfl (fun K hK => ?_)
  have HK := hid hK
  clear hK
  obtain ⟨i0, i1, i2, i3, n3, i4, i5, i6, box, kp, gm, wm, c7, c6⟩ := hZ
  have hb6 : b6 = false := by cases b6; rfl; exact absurd (c6 rfl).1 (by simp)
  subst hb6
  have hx := i0 rfl
  subst hx
  obtain ⟨nR, nO⟩ := n3 rfl
  obtain ⟨base, cap, W', hrun, hR, hG⟩ := app okW W x16 acc nR x18 ws (i2 rfl rfl).isIn (by have := hlen; rw [show EW.by' = 24 from rfl]; omega)
  refine stepIn_append_run rfl (.tmp 16) (.tmp 18) 88 88 rfl hrun rfl rfl ?_
  have hms : m ≤ W.heap.size := Nat.le_trans wm kp.size
  have hk := Ks.of_gr hG
  refine HK.out _ _ ⟨_, _, _, _, _, _, _, _, _, _, _, _, _, _, _, rfl, rfl, ⟨i0, i1, fun _ h => absurd h (by simp), fun _ _ => ⟨hR, fun k hk => (hG.own k hk).elim (nO k) fun e => Nat.le_trans hms e⟩, fun h => absurd h (by simp), i4, fun h h' => ?_, fun h => absurd h (by simp), ?_, kp.trans hk (fun _ _ h => h) (fun i _ h => .inr (nO i h)), gm, wm, c7, fun h => absurd h (by simp)⟩⟩
  · obtain ⟨B, h1, h2, h3⟩ := i5 h h'
    exact ⟨B, h1, (hk.block _ (heap_lt h2) (h3 rfl)).trans h2, fun h => absurd h (by simp)⟩
  · cases b7
    · exact (hk.block _ (heap_lt box) (fun e => by have := nO _ e; omega)).trans box
    · exact absurd (c7 rfl).2 (by simp)
theorem z6_4 (l : Nat) (Q : Exit → Act → World → Prop) (w0 : World) (g m : Nat) (v : Value) (acc ws : List Wd) (y : ByteArray) (t0 t1 t2 t5 t6 t7 t8 t9 t10 t11 t12 t13 t14 t15 t23 : Value) (b0 b1 b2 b3 b5 b6 b7 : Bool) (x16 x17 x18 x19 x20 x21 x22 : Value) (W : World) (hZ : Z6 w0 g m v acc ws y b0 b1 b2 b3 false b5 b6 b7 x16 x17 x18 x19 x20 x21 x22 W) :
    wpOpIn (Fence.wide.inRound l) 1 Tryz.prog ops26_6 Q 4 (I6 w0 g m v acc ws y t0 t1 t2 t5 t6 t7 t8 t9 t10 t11 t12 t13 t14 t15 t23 #[b0, b1, b2, b3, true, b5, b6, b7]) { tmps := #[t0, t1, t2, .pointer (some ⟨g, 0, none⟩), .string y, t5, t6, t7, t8, t9, t10, t11, t12, t13, t14, t15, x16, x17, x18, x19, x20, x21, x22, t23], defers := [] } W := by
  refine wpOpIn_step (o := { dst := some 20, op := Op.build 115 #[(0, Operand.const (Value.int IntKind.i64 2))], type := 115, pos := "word.go:35", after := #[], guard := none }) rfl (fun K hK => ?_)
  have HK := hid hK
  clear hK
  have HZ := hid hZ
  clear hZ
  gi_wp2
  obtain ⟨i0, i1, i2, i3, n3, i4, i5, i6, box, kp, gm, wm, c7, c6⟩ := HZ.out
  exact HK.out _ _ ⟨_, _, _, _, _, _, _, _, _, _, _, _, _, _, _, rfl, rfl, ⟨i0, i1, i2, i3, n3, fun _ => rfl, i5, i6, box, kp, gm, wm, c7, c6⟩⟩
theorem z6_5 (l : Nat) (Q : Exit → Act → World → Prop) (w0 : World) (g m : Nat) (v : Value) (acc ws : List Wd) (y : ByteArray) (t0 t1 t2 t5 t6 t7 t8 t9 t10 t11 t12 t13 t14 t15 t23 : Value) (b0 b1 b2 b3 b6 b7 : Bool) (x16 x17 x18 x19 x20 x21 x22 : Value) (W : World) (hZ : Z6 w0 g m v acc ws y b0 b1 b2 b3 true false b6 b7 x16 x17 x18 x19 x20 x21 x22 W) :
    wpOpIn (Fence.wide.inRound l) 1 Tryz.prog ops26_6 Q 5 (I6 w0 g m v acc ws y t0 t1 t2 t5 t6 t7 t8 t9 t10 t11 t12 t13 t14 t15 t23 #[b0, b1, b2, b3, true, true, b6, b7]) { tmps := #[t0, t1, t2, .pointer (some ⟨g, 0, none⟩), .string y, t5, t6, t7, t8, t9, t10, t11, t12, t13, t14, t15, x16, x17, x18, x19, x20, x21, x22, t23], defers := [] } W := by
  refine wpOpIn_step (o := { dst := some 21, op := Op.buildSlice 88 1 #[(0, Operand.tmp 20)], type := 88, pos := "word.go:35", after := #[{ on := 4, ground := Ground.data }], guard := none }) rfl (fun K hK => ?_)
  have HK := hid hK
  clear hK
  have hx := hZ.i4 rfl
  subst hx
  have HZ := hid hZ
  clear hZ
  gi_wp2
  obtain ⟨i0, i1, i2, i3, n3, i4, i5, i6, box, kp, gm, wm, c7, c6⟩ := HZ.out
  have hbel : Below W.heap.size W (W.alloc (.cells #[.int .i64 2, .string ⟨#[]⟩] 115)) := bel1 _ _
  refine HK.out _ _ ⟨_, _, _, _, _, _, _, _, _, _, _, _, _, _, _, rfl, rfl, ⟨i0, i1, fun h h' => (i2 h h').below hbel, fun h h' => ⟨(i3 h h').1.below hbel, (i3 h h').2⟩, fun h => ⟨(n3 h).1.below hbel, (n3 h).2⟩, i4, fun h h' => ⟨_, rfl, by rw [heap_al, if_pos rfl], fun h3 e => ?_⟩, fun h => ⟨(i6 h).1.below hbel, (i6 h).2⟩, (hbel.block _ (heap_lt box)).trans box, kp.trans (Ks.of_below hbel) (fun _ _ h => h) (fun _ _ h => h), gm, wm, c7, fun h => absurd (c6 h).2 (by simp)⟩⟩
  exact absurd ((n3 h3).1.lt _ e) (by omega)
theorem z6_6 (l : Nat) (Q : Exit → Act → World → Prop) (w0 : World) (g m : Nat) (v : Value) (acc ws : List Wd) (y : ByteArray) (t0 t1 t2 t5 t6 t7 t8 t9 t10 t11 t12 t13 t14 t15 t23 : Value) (hlen : (acc.length + ws.length + 1) * 24 ≤ 140737488355328) (b0 b1 b2 b4 b7 : Bool) (x16 x17 x18 x19 x20 x21 x22 : Value) (W : World) (hZ : Z6 w0 g m v acc ws y b0 b1 b2 true b4 true false b7 x16 x17 x18 x19 x20 x21 x22 W) :
    wpOpIn (Fence.wide.inRound l) 1 Tryz.prog ops26_6 Q 6 (I6 w0 g m v acc ws y t0 t1 t2 t5 t6 t7 t8 t9 t10 t11 t12 t13 t14 t15 t23 #[b0, b1, b2, true, b4, true, true, b7]) { tmps := #[t0, t1, t2, .pointer (some ⟨g, 0, none⟩), .string y, t5, t6, t7, t8, t9, t10, t11, t12, t13, t14, t15, x16, x17, x18, x19, x20, x21, x22, t23], defers := [] } W := by
  refine wpOpIn_step (o := { dst := some 22, op := Op.call { callee := Callee.builtin Builtin.append, args := #[Operand.tmp 19, Operand.tmp 21], argTypes := #[88, 88] }, type := 88, pos := "word.go:35", after := #[{ on := 3, ground := Ground.data }, { on := 5, ground := Ground.data }, { on := 3, ground := Ground.chain }], guard := none }) rfl (fun K hK => ?_)
  have HK := hid hK
  clear hK
  obtain ⟨i0, i1, i2, i3, n3, i4, i5, i6, box, kp, gm, wm, c7, c6⟩ := hZ
  have hb7 : b7 = false := by cases b7; rfl; exact absurd (c7 rfl).2 (by simp)
  subst hb7
  obtain ⟨nR, nO⟩ := i3 rfl rfl
  obtain ⟨B, rfl, hB, _⟩ := i5 rfl rfl
  obtain ⟨base, cap, W', hrun, hR, hG⟩ := app okW W x19 (acc ++ ws) nR _ [⟨2, noS⟩] (in_one W B _ _ 115 (0, 0) hB rfl) (by have := hlen; rw [show EW.by' = 24 from rfl]; simp only [List.length_append, List.length_cons, List.length_nil]; omega)
  refine stepIn_append_run rfl (.tmp 19) (.tmp 21) 88 88 rfl hrun rfl rfl ?_
  have hms : m ≤ W.heap.size := Nat.le_trans wm kp.size
  have hk := Ks.of_gr hG
  refine HK.out _ _ ⟨_, _, _, _, _, _, _, _, _, _, _, _, _, _, _, rfl, rfl, ⟨i0, i1, fun _ h => absurd h (by simp), fun _ h => absurd h (by simp), fun h => absurd h (by simp), i4, fun h h' => absurd h' (by simp), fun _ => ⟨hR, fun k hk => (hG.own k hk).elim (nO k) fun e => Nat.le_trans hms e⟩, ?_, kp.trans hk (fun _ _ h => h) (fun i _ h => .inr (nO i h)), gm, wm, fun h => absurd h (by simp), fun _ => ⟨rfl, rfl⟩⟩⟩
  exact (hk.block _ (heap_lt box) (fun e => by have := nO _ e; omega)).trans box
theorem z6_7 (l : Nat) (Q : Exit → Act → World → Prop) (w0 : World) (g m : Nat) (v : Value) (acc ws : List Wd) (y : ByteArray) (t0 t1 t2 t5 t6 t7 t8 t9 t10 t11 t12 t13 t14 t15 t23 : Value) (x16 x17 x18 x19 x20 x21 x22 : Value) (W : World) (hZ : Z6 w0 g m v acc ws y true true true true true true true false x16 x17 x18 x19 x20 x21 x22 W) :
    wpOpIn (Fence.wide.inRound l) 1 Tryz.prog ops26_6 Q 7 (I6 w0 g m v acc ws y t0 t1 t2 t5 t6 t7 t8 t9 t10 t11 t12 t13 t14 t15 t23 #[true, true, true, true, true, true, true, true]) { tmps := #[t0, t1, t2, .pointer (some ⟨g, 0, none⟩), .string y, t5, t6, t7, t8, t9, t10, t11, t12, t13, t14, t15, x16, x17, x18, x19, x20, x21, x22, t23], defers := [] } W := by
  refine wpOpIn_step (o := { dst := none, op := Op.store 88 (Operand.tmp 3) (Operand.tmp 22), type := 0, pos := "word.go:35", after := #[{ on := 6, ground := Ground.data }, { on := 6, ground := Ground.chain }, { on := 0, ground := Ground.phase }, { on := 1, ground := Ground.phase }, { on := 2, ground := Ground.phase }, { on := 3, ground := Ground.phase }, { on := 4, ground := Ground.phase }, { on := 5, ground := Ground.phase }, { on := 6, ground := Ground.phase }], guard := none }) rfl (fun K hK => ?_)
  have HK := hid hK
  clear hK
  obtain ⟨ba, ca, e, _⟩ := (hZ.i6 rfl).1.slice
  obtain ⟨nn, hn⟩ : ∃ nn, (acc ++ ws ++ [(⟨2, noS⟩ : Wd)]).length = nn := ⟨_, rfl⟩
  rw [hn] at e
  clear hn
  subst e
  have c0 := cell_blk hZ.box 0
  have f0 := frozen_blk hZ.box 0
  simp only [List.getElem?_toArray, List.getElem?_cons_zero] at c0
  have l0 := heap_lt hZ.box
  have HZ := hid hZ
  clear hZ
  gi_wp2
  obtain ⟨i0, i1, i2, i3, n3, i4, i5, i6, box, kp, gm, wm, c7, c6⟩ := HZ.out
  have hk := Ks.setCell (fun k => k = g) W g 0 (.slice ba nn ca) rfl
  refine HK.out _ _ ⟨_, _, _, _, _, _, _, _, _, _, _, _, _, _, _, rfl, rfl, ⟨i0, i1, fun _ h => absurd h (by simp), fun _ h => absurd h (by simp), fun h => absurd h (by simp), i4, fun h h' => absurd h' (by simp), fun _ => ⟨(i6 rfl).1.stays (fun k e hl => hk.block k hl (fun e2 => by have := (i6 rfl).2 k e; omega)), (i6 rfl).2⟩, by rw [setCell_block _ _ _ _ _ _ _ box]; rfl, kp.trans hk (fun _ _ h => h) (fun i _ h => .inl h), gm, wm, fun _ => ⟨rfl, rfl⟩, c6⟩⟩
end Go.Proofs.YtghppkfopglgaaaGreatDoor
namespace Go.Proofs.YtghppkfopglgaaaGreatDoor
open Go.RowKit Go.Shelf
set_option linter.unusedVariables false
set_option linter.unusedSimpArgs false
theorem z6_step (l : Nat) (Q : Exit → Act → World → Prop) (w0 : World) (g m : Nat) (v : Value) (acc : List Wd) (y : ByteArray) (t0 t1 t2 t5 t6 t7 t8 t9 t10 t11 t12 t13 t14 t15 t23 : Value) (hy : y.size ≤ 1048576) (hlen : (acc.length + ((wol y.data.toList).getD []).length + 1) * 24 ≤ 140737488355328) : ∀ L a W, I6 w0 g m v acc ((wol y.data.toList).getD []) y t0 t1 t2 t5 t6 t7 t8 t9 t10 t11 t12 t13 t14 t15 t23 L a W → ∀ i, i ∈ Region.ready .any ops26_6 L → wpOpIn (Fence.wide.inRound l) 1 Tryz.prog ops26_6 Q i (I6 w0 g m v acc ((wol y.data.toList).getD []) y t0 t1 t2 t5 t6 t7 t8 t9 t10 t11 t12 t13 t14 t15 t23 (L.setIfInBounds i true)) a W := by
  rintro L a W ⟨b0, b1, b2, b3, b4, b5, b6, b7, x16, x17, x18, x19, x20, x21, x22, rfl, rfl, hZ⟩ i h
  obtain ⟨h1, o, ho, hp⟩ := mem_ready.1 h
  have hi : i < 8 := by
    refine Decidable.byContradiction fun hn => ?_
    simp only [Array.getD, List.size_toArray, List.length_cons, List.length_nil, Nat.reduceAdd, dif_neg hn] at h1
    cases h1
  obtain rfl | rfl | rfl | rfl | rfl | rfl | rfl | rfl : i = 0 ∨ i = 1 ∨ i = 2 ∨ i = 3 ∨ i = 4 ∨ i = 5 ∨ i = 6 ∨ i = 7 := by omega
  · simp only [ops26_6, List.getElem?_toArray, List.getElem?_cons_zero, List.getElem?_cons_succ, Option.some.injEq] at ho
    subst ho
    simp [Region.binds] at h1 hp
    subst h1
    exact z6_0 l Q w0 g m v acc ((wol y.data.toList).getD []) y t0 t1 t2 t5 t6 t7 t8 t9 t10 t11 t12 t13 t14 t15 t23  _ _ _ _ _ _ _ _ _ _ _ _ _ _ W hZ
  · simp only [ops26_6, List.getElem?_toArray, List.getElem?_cons_zero, List.getElem?_cons_succ, Option.some.injEq] at ho
    subst ho
    simp [Region.binds] at h1 hp
    subst h1
    exact z6_1 l Q w0 g m v acc ((wol y.data.toList).getD []) y t0 t1 t2 t5 t6 t7 t8 t9 t10 t11 t12 t13 t14 t15 t23  _ _ _ _ _ _ _ _ _ _ _ _ _ _ W hZ
  · simp only [ops26_6, List.getElem?_toArray, List.getElem?_cons_zero, List.getElem?_cons_succ, Option.some.injEq] at ho
    subst ho
    simp [Region.binds] at h1 hp
    subst h1 hp
    exact z6_2 l Q w0 g m v acc y t0 t1 t2 t5 t6 t7 t8 t9 t10 t11 t12 t13 t14 t15 t23 hy _ _ _ _ _ _ _ _ _ _ _ _ _ W hZ
  · simp only [ops26_6, List.getElem?_toArray, List.getElem?_cons_zero, List.getElem?_cons_succ, Option.some.injEq] at ho
    subst ho
    simp [Region.binds] at h1 hp
    obtain ⟨hp1, hp2⟩ := hp
    subst h1 hp1 hp2
    exact z6_3 l Q w0 g m v acc ((wol y.data.toList).getD []) y t0 t1 t2 t5 t6 t7 t8 t9 t10 t11 t12 t13 t14 t15 t23 hlen _ _ _ _ _ _ _ _ _ _ _ _ W hZ
  · simp only [ops26_6, List.getElem?_toArray, List.getElem?_cons_zero, List.getElem?_cons_succ, Option.some.injEq] at ho
    subst ho
    simp [Region.binds] at h1 hp
    subst h1
    exact z6_4 l Q w0 g m v acc ((wol y.data.toList).getD []) y t0 t1 t2 t5 t6 t7 t8 t9 t10 t11 t12 t13 t14 t15 t23  _ _ _ _ _ _ _ _ _ _ _ _ _ _ W hZ
  · simp only [ops26_6, List.getElem?_toArray, List.getElem?_cons_zero, List.getElem?_cons_succ, Option.some.injEq] at ho
    subst ho
    simp [Region.binds] at h1 hp
    subst h1 hp
    exact z6_5 l Q w0 g m v acc ((wol y.data.toList).getD []) y t0 t1 t2 t5 t6 t7 t8 t9 t10 t11 t12 t13 t14 t15 t23  _ _ _ _ _ _ _ _ _ _ _ _ _ W hZ
  · simp only [ops26_6, List.getElem?_toArray, List.getElem?_cons_zero, List.getElem?_cons_succ, Option.some.injEq] at ho
    subst ho
    simp [Region.binds] at h1 hp
    obtain ⟨hp1, hp2, _⟩ := hp
    subst h1 hp1 hp2
    exact z6_6 l Q w0 g m v acc ((wol y.data.toList).getD []) y t0 t1 t2 t5 t6 t7 t8 t9 t10 t11 t12 t13 t14 t15 t23 hlen _ _ _ _ _ _ _ _ _ _ _ _ W hZ
  · simp only [ops26_6, List.getElem?_toArray, List.getElem?_cons_zero, List.getElem?_cons_succ, Option.some.injEq] at ho
    subst ho
    simp [Region.binds] at h1 hp
    obtain ⟨h6, h0, h1', h2, h3, h4, h5, _⟩ := hp
    subst h1 h6 h0 h1' h2 h3 h4 h5
    exact z6_7 l Q w0 g m v acc ((wol y.data.toList).getD []) y t0 t1 t2 t5 t6 t7 t8 t9 t10 t11 t12 t13 t14 t15 t23   _ _ _ _ _ _ _ W hZ
theorem z6_region (l : Nat) (Q : Exit → Act → World → Prop) (w0 : World) (g m : Nat) (v : Value) (acc : List Wd) (y : ByteArray) (t0 t1 t2 t5 t6 t7 t8 t9 t10 t11 t12 t13 t14 t15 t23 : Value) (hy : y.size ≤ 1048576) (hlen : (acc.length + ((wol y.data.toList).getD []).length + 1) * 24 ≤ 140737488355328) (x16 x17 x18 x19 x20 x21 x22 : Value) (gm : g < m) (wm : m ≤ w0.heap.size) (hR : R EW w0 v acc) (hO : ∀ k, v.ownBlock = some k → m ≤ k) (hb : w0.heap[g]? = some (.cells #[v] 88 (0, 0)))
    (hQ : ∀ a W v', W.heap[g]? = some (.cells #[v'] 88 (0, 0)) → R EW W v' (acc ++ ((wol y.data.toList).getD []) ++ [⟨2, noS⟩]) → (∀ k, v'.ownBlock = some k → m ≤ k) → Ks (fun k => k = g ∨ m ≤ k) w0 W → Q .normal a W) :
    (Code.region 6 ops26_6 true).wpIn (Fence.wide.inRound l) 1 Tryz.prog Q { tmps := #[t0, t1, t2, .pointer (some ⟨g, 0, none⟩), .string y, t5, t6, t7, t8, t9, t10, t11, t12, t13, t14, t15, x16, x17, x18, x19, x20, x21, x22, t23], defers := [] } w0 := by
  refine wpIn_region_any (by kernel_rfl) ?_
  have hd : Below w0.heap.size w0 { w0 with drawn := w0.drawn + 1 } := (Below.refl _ _).drew
  refine wpAnyIn_inv (z6_step l Q w0 g m v acc y t0 t1 t2 t5 t6 t7 t8 t9 t10 t11 t12 t13 t14 t15 t23 hy hlen) (fun L a W hI hr => ?_) _ _ _ _ ?_ ⟨false, false, false, false, false, false, false, false, _, _, _, _, _, _, _, rfl, rfl, ⟨nofun, nofun, nofun, nofun, fun _ => ⟨hR.below hd, hO⟩, nofun, nofun, nofun, (hd.block _ (heap_lt hb)).trans hb, Ks.of_below hd, gm, wm, nofun, nofun⟩⟩
  · obtain ⟨b0, b1, b2, b3, b4, b5, b6, b7, x16, x17, x18, x19, x20, x21, x22, rfl, rfl, hZ⟩ := hI
    have hall : ∀ b0 b1 b2 b3 b4 b5 b6 b7 : Bool, Region.ready .any ops26_6 #[b0, b1, b2, b3, b4, b5, b6, b7] = [] → b6 = true ∧ b7 = true := by decide +kernel
    obtain ⟨rfl, rfl⟩ := hall _ _ _ _ _ _ _ _ hr
    exact hQ _ _ _ hZ.box (hZ.i6 rfl).1 (hZ.i6 rfl).2 hZ.kp
  · decide
end Go.Proofs.YtghppkfopglgaaaGreatDoor
namespace Go.Proofs.YtghppkfopglgaaaGreatDoor
open Go.RowKit Go.Shelf
set_option linter.unusedVariables false
set_option linter.unusedSimpArgs false
attribute [local go_sem] Oper.semAt_some
theorem wol_size : ∀ (n : Nat) (l : List UInt8) (ws : List Wd), l.length ≤ n → wol l = some ws → ws.length ≤ l.length + 1 := by
  intro n
  induction n with
  | zero =>
    intro l ws hl h
    have : l = [] := List.eq_nil_of_length_eq_zero (by omega)
    subst this
    have e : fw [] = some (⟨0, noS⟩, []) := rfl
    rw [wol_of e] at h
    cases h
    simp
  | succ n ih =>
    intro l ws hl h
    cases hf : fw l with
    | none => rw [wol_no hf] at h; cases h
    | some p =>
      obtain ⟨w, r⟩ := p
      cases r with
      | nil => rw [wol_of hf] at h; cases h; simp
      | cons c r =>
        have hlt := fw_len l w c r hf
        by_cases hc : c = 32
        · subst hc
          rw [wol_more hf] at h
          obtain ⟨ws', h1, rfl⟩ := Option.map_eq_some_iff.1 h
          have := ih r ws' (by omega) h1
          simp; omega
        · rw [wol_bad hf hc] at h; cases h
theorem wol_len (l : List UInt8) : ((wol l).getD []).length ≤ l.length + 1 := by
  cases h : wol l with
  | none => simp
  | some ws => exact wol_size _ l ws (Nat.le_refl _) h
def wd1 (x : ByteArray) : List Wd := if silB (trimB x).data.toList then [] else (wol (trimB x).data.toList).getD [] ++ [⟨2, noS⟩]
def wdsB (l : List ByteArray) : List Wd := l.flatMap wd1
theorem trimB_toList (x : ByteArray) : (trimB x).data.toList = trimN x.data.toList := bt_toList _
theorem wds_B (s : ByteArray) : wds s.data.toList = wdsB (lnB s) := by
  unfold wds wdsB lnB
  rw [List.flatMap_map, List.flatMap_map]
  have : (fun l => wd1 (bt l)) = fun l => if silB (trimN l) then [] else (wol (trimN l)).getD [] ++ [⟨2, noS⟩] := by
    funext l
    unfold wd1
    rw [trimB_toList, bt_toList]
  rw [this]
theorem trimB_size (x : ByteArray) : (trimB x).size ≤ x.size := by
  rw [sz_eq, trimB_toList, sz_eq]
  unfold trimN Lib.trimSuffix
  split
  · rw [List.length_take]; exact Nat.min_le_right _ _
  · exact Nat.le_refl _
theorem wd1_len (x : ByteArray) : (wd1 x).length ≤ x.size + 2 := by
  unfold wd1
  split
  · simp
  · have h1 := wol_len (trimB x).data.toList
    have h2 := trimB_size x
    rw [← sz_eq] at h1
    simp only [List.length_append, List.length_cons, List.length_nil]
    omega
theorem wdsB_len (n : Nat) : ∀ l : List ByteArray, (∀ x ∈ l, x.size ≤ n) → (wdsB l).length ≤ l.length * (n + 2)
  | [], _ => by simp [wdsB]
  | x :: l, h => by
    have h1 := wd1_len x
    have h2 := h x (by simp)
    have h3 := wdsB_len n l (fun y hy => h y (by simp [hy]))
    show (wd1 x ++ wdsB l).length ≤ _
    rw [List.length_append, List.length_cons, Nat.succ_mul]
    omega
theorem wdsB_snoc (l : List ByteArray) (x : ByteArray) : wdsB (l ++ [x]) = wdsB l ++ wd1 x := by simp [wdsB]
theorem sil_hash (y : ByteArray) (h : y ≠ ⟨#[]⟩) : Lib.hasPrefix y.data.toList [35] = silB y.data.toList := by
  cases e : y.data.toList with
  | nil => exact absurd (ba_eq e) h
  | cons c r => rw [Bool.eq_iff_iff]; simp [Lib.hasPrefix, silB]; exact ⟨fun h => h.symm, fun h => h.symm⟩
theorem leaves_row (w : World) (tm : Array Value) (g : Nat) (z : Value) (l : List Wd) (ds : List Deferred) (W : World) (h2 : tm.getD 2 undef = z) (hR : R EW W z l) (hO : ∀ k, z.ownBlock = some k → w.heap.size ≤ k) (hd : Dl ds W) (hw : Below w.heap.size w W) (hlo : ∀ d ∈ ds, ∀ k, d.target = .collected k → w.heap.size ≤ k) :
    LeavesInM Fence.wide 3 Tryz.prog Tryz.f26 tm (fun e w' => ∃ z, e = .returned z ∧ R EW w' z l ∧ (∀ k, z.ownBlock = some k → w.heap.size ≤ k) ∧ Below w.heap.size w w') ds .returning W := by
  refine leaves_marks ds W hd fun W' hW' => ⟨z, ?_, z, rfl, ?_, hO, ?_⟩
  · have h2' : tm[2]?.getD undef = z := by rw [← h2]; simp
    obtain ⟨b, c, rfl, _⟩ := hR.slice
    simp [results, Tryz.f26, go_sem, h2']
  · refine hR.stays fun k hk hl => hW'.block k hl ?_
    rintro ⟨d, h1, h3⟩
    have := (hd.lt d h1 k h3).2
    obtain ⟨c, hc⟩ := hR.ty k hk
    rw [this] at hc
    cases hc
  · refine hw.trans (hW'.below hw.size fun k hk => ?_)
    rintro ⟨d, h1, h3⟩
    have := hlo d h1 k h3
    omega
end Go.Proofs.YtghppkfopglgaaaGreatDoor
namespace Go.Proofs.YtghppkfopglgaaaGreatDoor
open Go.RowKit Go.Shelf
set_option linter.unusedVariables false
set_option linter.unusedSimpArgs false
attribute [local go_sem] Oper.semAt_some
def WoI (w : World) (g : Nat) (pre : List ByteArray) (W : World) : Prop := ∃ v, W.heap[g]? = some (.cells #[v] 88 (0, 0)) ∧ R EW W v (wdsB pre) ∧ (∀ k, v.ownBlock = some k → g + 4 ≤ k) ∧ Below g w W
def WoX (W : World) : Prop := False
theorem WoI.keep {w : World} {g : Nat} {pre : List ByteArray} {W W' : World} (h : WoI w g pre W) (hk : Ks (fun k => k = g + 1 ∨ k = g + 2 ∨ k = g + 2 + 1) W W') : WoI w g pre W' := by
  obtain ⟨v, h1, h2, h3, h4⟩ := h
  have hl := heap_lt h1
  exact ⟨v, (hk.block g hl (by omega)).trans h1, h2.stays (fun k e hl => hk.block k hl (by have := h3 k e; omega)), h3, h4.trans (hk.below (by omega) (fun i hi => by omega))⟩
set_option maxRecDepth 100000 in
set_option maxHeartbeats 8000000 in
theorem wordsOf_in (s : ByteArray) (hs : s.size ≤ 1048576) (w : World) : CallsIn Fence.wide 3 Tryz.prog 26 #[.string s] w fun e w' => ∃ z, e = .returned z ∧ R EW w' z (wds s.data.toList) ∧ (∀ k, z.ownBlock = some k → w.heap.size ≤ k) ∧ Below w.heap.size w w' := by
  have HS := hid hs
  have HLv := hid (leaves_row w)
  obtain ⟨g, hg⟩ : ∃ g, w.heap.size = g := ⟨_, rfl⟩
  have HG := hid hg
  clear hs
  refine callsIn_of_wp_marks Tryz.func26 rfl trivial ?_ rfl
  simp only [Tryz.ntmps26, List.size_toArray, List.length_cons, List.length_nil, Nat.reduceAdd, Nat.reduceSub, Array.replicate_succ, Array.replicate_zero, List.push_toArray, List.append_toArray, List.nil_append, List.cons_append]
  gi_wp2_with (refine ⟨trivial, ?_⟩; gi_at_call 40; refine (callsIn_wide.2 (lines_call s _)).mono ?_; rintro e w1 ⟨rfl, hw⟩; subst hw)
  try rw [hg]
  obtain ⟨W0, hW0⟩ : ∃ W0, (w.alloc (.cells #[.slice none 0 0] 88)).alloc (.cells #[.string s] 9) = W0 := ⟨_, rfl⟩
  have z0 : W0.heap.size = g + 2 := by rw [← hW0, ← hg]; simp
  have g0 : W0.heap[g]? = some (.cells #[.slice none 0 0] 88 (0, 0)) := by rw [← hW0, heap_al, if_neg (by simp; omega), heap_al, if_pos hg.symm]
  have g2 : W0.heap[g + 1]? = some (.cells #[.string s] 9 (0, 0)) := by rw [← hW0, heap_al, if_pos (by simp; omega)]
  have b0 : Below g w W0 := by rw [← hW0, ← hg]; exact bel2 _ _ _
  rw [hW0]
  refine range_lines (bs := g + 1) (s := s) rfl g2 (by have := HS.out; omega) (WoI w g) WoX
    (fun x a => ∃ t, a = { tmps := t, defers := [] } ∧ t = #[.string s, undef, .slice none 0 0, .pointer (some ⟨g, 0, none⟩), .string x, .string s, .func (.func 55) #[] #[.pointer (some ⟨g + 1, 0, none⟩)], .string x, undef, undef, undef, undef, undef, undef, undef, undef, undef, undef, undef, undef, undef, undef, undef, undef])
    (fun pre W W' h hk => ?_) (fun W W' h hk => h.elim) ⟨_, g0, R.nil _ _, fun k hk => absurd hk (by simp [Value.ownBlock]), b0⟩ (fun l x W K hK => ?_) (fun l pre x r a₁ W hpx hI hA hsz => ?_) (fun W hI hd => ?_) (fun W hX hd => hX.elim)
  case refine_1 => rw [z0] at hk; exact h.keep hk
  case refine_2 =>
    have HK := hid hK
    clear hK
    gi_wp2
    exact HK.out _ ⟨_, rfl, rfl⟩
  case refine_3 =>
    obtain ⟨t, rfl, rfl⟩ := hA
    rw [z0] at hsz
    have hmem : x ∈ lnB s := by rw [← hpx]; simp
    have hxs := (lnB_len s).2 x hmem
    have hT := trimB_size x
    have HT := hid (fun V => trim_any x V (by have := HS.out; omega))
    have HI := hid hI
    obtain ⟨y, hy⟩ : ∃ y, trimB x = y := ⟨_, rfl⟩
    have hpl : (wdsB pre).length ≤ 1048576 * 1048578 := by
      have h1 := wdsB_len s.size pre (fun q hq => (lnB_len s).2 q (by rw [← hpx]; simp [hq]))
      have h2 : pre.length ≤ s.size := by
        have := (lnB_len s).1
        have h3 : pre.length ≤ (lnB s).length := by rw [← hpx]; simp
        omega
      have := HS.out
      exact Nat.le_trans h1 (Nat.mul_le_mul (by omega) (by omega))
    have hwl := wol_len y.data.toList
    rw [← sz_eq] at hwl
    rw [hy] at hT HT
    have hys : y.size ≤ 1048576 := by have := HS.out; omega
    have HP := hid (fun V => Tryz.strings_HasPrefix y ⟨#[35]⟩ V)
    have HLEN : Hid (((wdsB pre).length + ((wol y.data.toList).getD []).length + 1) * 24 ≤ 140737488355328) := by show _ ≤ _; omega
    have HYS := hid hys
    have HSZ := hid hsz
    have HEND : Hid (∀ z, wd1 x = z → WoI w g pre W → WoI w g (pre ++ [x]) W ∨ z ≠ []) := fun z hz h => by
      cases z with
      | nil => rw [show WoI w g (pre ++ [x]) W = WoI w g pre W by unfold WoI; rw [wdsB_snoc, hz, List.append_nil]]; exact .inl h
      | cons a r => exact .inr (by simp)
    have HW1 : Hid (wd1 x = if silB y.data.toList then [] else (wol y.data.toList).getD [] ++ [⟨2, noS⟩]) := by show _ = _; unfold wd1; rw [hy]
    clear hmem hxs hT hpl hwl hys hsz hpx hI hy
    by_cases he : y = ⟨#[]⟩
    · have hb := str_eq he
      have hb2 : y.toList.isEmpty = true := by rw [he, ByteArray.toList_eq]; rfl
      have HSI : Hid (silB y.data.toList = true) := by show _ = _; rw [he]; rfl
      clear he
      gi_wp2_with (first | (refine ⟨trivial, ?_⟩; gi_at_call 41; refine (callsIn_wide.2 (HT.out _)).mono ?_; rintro e w1 ⟨rfl, hw⟩; subst hw) | (refine ⟨trivial, ?_⟩; go_at_K))
      have hz := HW1.out
      rw [HSI.out, if_pos rfl] at hz
      refine ⟨⟨⟨Nat.le_refl _, rfl⟩, rfl, rfl⟩, ?_⟩
      rcases HEND.out _ hz HI.out with h | h
      · exact h
      · exact absurd rfl h
    · have hb := str_ne he
      have hb2 : y.toList.isEmpty = false := by
        rw [ByteArray.toList_eq]
        cases e : y.data.toList with
        | nil => exact absurd (ba_eq e) he
        | cons c r => rfl
      have HQ := hid (fun V => (HP.out V).mono (R' := fun e w' => e = .returned (.bool (silB y.data.toList)) ∧ w' = V) (by
        rintro e w' ⟨rfl, rfl⟩
        exact ⟨by rw [show (⟨#[35]⟩ : ByteArray).data.toList = [35] from rfl, sil_hash y he], rfl⟩))
      clear he HP
      cases hsil : silB y.data.toList with
      | true =>
        have HSI := hid hsil
        rw [hsil] at HQ
        clear hsil
        gi_wp2_with (first | (refine ⟨trivial, ?_⟩; gi_at_call 41; refine (callsIn_wide.2 (HT.out _)).mono ?_; rintro e w1 ⟨rfl, hw⟩; subst hw) | (refine ⟨trivial, ?_⟩; gi_at_call 43; refine (callsIn_wide.2 (HQ.out _)).mono ?_; rintro e w1 ⟨rfl, hw⟩; subst hw) | (refine ⟨trivial, ?_⟩; go_at_K))
        have hz := HW1.out
        rw [HSI.out, if_pos rfl] at hz
        refine ⟨⟨⟨Nat.le_refl _, rfl⟩, rfl, rfl⟩, ?_⟩
        rcases HEND.out _ hz HI.out with h | h
        · exact h
        · exact absurd rfl h
      | false =>
        have HSI := hid hsil
        rw [hsil] at HQ
        clear hsil
        gi_wp2_with (first | (refine ⟨trivial, ?_⟩; gi_at_call 41; refine (callsIn_wide.2 (HT.out _)).mono ?_; rintro e w1 ⟨rfl, hw⟩; subst hw) | (refine ⟨trivial, ?_⟩; gi_at_call 43; refine (callsIn_wide.2 (HQ.out _)).mono ?_; rintro e w1 ⟨rfl, hw⟩; subst hw) | (refine ⟨trivial, ?_⟩; go_at_K))
        obtain ⟨v, h1, h2, h3, h4⟩ := HI.out
        refine z6_region l _ _ g (g + 4) v (wdsB pre) y _ _ _ _ _ _ _ _ _ _ _ _ _ _ _ HYS.out HLEN.out _ _ _ _ _ _ _ (by omega) (by have := HSZ.out; omega) h2 h3 h1 (fun a V v' k1 k2 k3 k4 => ?_)
        have hl := heap_lt h1
        refine ⟨⟨⟨k4.size, k4.block _ (by have := HSZ.out; omega) (by omega)⟩, k4.block _ (by have := HSZ.out; omega) (by omega), k4.block _ (by have := HSZ.out; omega) (by omega)⟩, ⟨v', k1, ?_, k3, h4.trans (k4.below (by omega) (fun i hi => by omega))⟩⟩
        rw [wdsB_snoc, HW1.out, HSI.out, if_neg (by simp), ← List.append_assoc]
        exact k2
  case refine_4 =>
    obtain ⟨v, h1, h2, h3, h4⟩ := hI
    have c0 := cell_blk h1 0
    have f0 := frozen_blk h1 0
    have l0 := heap_lt h1
    simp only [List.getElem?_toArray, List.getElem?_cons_zero] at c0
    rw [← wds_B] at h2
    have HE := hid (fun (tm : Array Value) (ht : tm.getD 2 undef = v) => HLv.out tm g v _ [{ target := .collected W0.heap.size, args := #[] }] W ht h2 (fun k hk => by have := h3 k hk; rw [HG.out]; omega) (dl_one hd) (by rw [HG.out]; exact h4) (fun d hd k hk => by
        rw [List.mem_singleton.1 hd] at hk
        simp at hk
        rw [HG.out]
        omega))
    clear h1 h2 h3 h4 hd z0 hg
    gi_wp2
    refine HE.out _ ?_
    rfl
theorem wordsOf_any (s : ByteArray) (hs : s.size ≤ 1048576) (w : World) : Calls Tryz.prog 26 #[.string s] w fun e w' => ∃ z, e = .returned z ∧ R EW w' z (wds s.data.toList) ∧ (∀ k, z.ownBlock = some k → w.heap.size ≤ k) ∧ Below w.heap.size w w' := callsIn_wide.1 (wordsOf_in s hs w)
end Go.Proofs.YtghppkfopglgaaaGreatDoor
