/- site: Serve. -/
import Derived.Test.YtcadlpmopplkeaaDoorE4
namespace Go.Proofs.YtcadlpmopplkeaaDoor
open Go.RowKit Go.Maps
open Go.Shelf
set_option linter.unusedVariables false
set_option linter.unusedSimpArgs false

/-- the last edition that is no newer -/
def atO (l : List Ed) (v : Int) : Option Ed := l.reverse.find? (fun e => decide (e.s ≤ v))
theorem atO_snoc (l : List Ed) (e : Ed) (v : Int) : atO (l ++ [e]) v = if e.s ≤ v then some e else atO l v := by
  unfold atO
  rw [List.reverse_append, List.reverse_singleton, List.singleton_append]
  by_cases h : e.s ≤ v
  · rw [if_pos h, List.find?_cons_of_pos (by simpa using h)]
  · rw [if_neg h, List.find?_cons_of_neg (by simpa using h)]
/-- since-numbers rise -/
def Ris (l : List Ed) : Prop := l.Pairwise (fun x y => x.s < y.s)
def plO (l : List Ed) (r : Nat) : Option Ed := match r with | 0 => none | k + 1 => l[k]?
theorem pl_at (l : List Ed) (v : Int) : ∀ r, Ris l → Pl l v r → atO l v = plO l r := by
  refine snocRec (P := fun l => ∀ r, Ris l → Pl l v r → atO l v = plO l r) ?_ ?_ l
  · intro r _ h
    have : r = 0 := by have := h.1; simpa using this
    subst this
    rfl
  · intro l e ih r hs h
    obtain ⟨hs1, hs2, hs3⟩ := List.pairwise_append.1 hs
    rw [atO_snoc]
    by_cases hr : r = l.length + 1
    · subst hr
      have := h.2.1 l.length (by simp) rfl
      rw [List.getElem_append_right (by omega)] at this
      simp at this
      rw [if_pos this]
      simp [plO]
    · have hrl : r ≤ l.length := by have := h.1; simp at this; omega
      have hv := h.2.2 (by simp; omega)
      have hev : ¬ e.s ≤ v := by
        by_cases hr2 : r < l.length
        · rw [List.getElem_append_left hr2] at hv
          have := hs3 l[r] (List.getElem_mem _) e (by simp)
          omega
        · have : r = l.length := by omega
          subst this
          rw [List.getElem_append_right (by omega)] at hv
          simp at hv
          omega
      rw [if_neg hev, ih r hs1 ⟨hrl, fun i hi he => by have := h.2.1 i (by simp; omega) he; rwa [List.getElem_append_left hi] at this, fun hi => by rwa [List.getElem_append_left hi] at hv⟩]
      cases r with
      | zero => rfl
      | succ k => simp only [plO]; rw [List.getElem?_append_left (by omega)]
def alF : Fd := ⟨⟨#[97, 108, 108, 111, 119]⟩, ⟨#[71, 69, 84, 44, 32, 72, 69, 65, 68]⟩, false⟩
def isM (m : ByteArray) : Bool := (m.toList == [71, 69, 84]) || (m.toList == [72, 69, 65, 68])
def svN (o : Option Ed) (m : ByteArray) : Int := match o with | none => 404 | some e => if isM m = true then e.n else 405
def svL (o : Option Ed) (m : ByteArray) (fs : List Fd) : List Fd := match o with | none => [szF 0] | some e => if isM m = true then szF ((chS e fs).b.size : Int) :: vyL e.v else [szF 0, alF]
def svB (o : Option Ed) (m : ByteArray) (fs : List Fd) : ByteArray := match o with | none => ⟨#[]⟩ | some e => if isM m = true then anB m (chS e fs).b else ⟨#[]⟩
def SvPost (nv v : Int) (l : List Ed) (m : ByteArray) (fs : List Fd) (w : World) (r : Ending) (w' : World) : Prop :=
  Below w.heap.size w w' ∧ ((ivB nv v = false ∧ r = .returned (.tuple #[.agg (rsv 0 (.slice none 0 0) ⟨#[]⟩), .int .i64 5])) ∨
    (ivB nv v = true ∧ ∃ u, r = .returned (.tuple #[u, .int .i64 0]) ∧ RsNew w (svN (atO l v) m) (svL (atO l v) m fs) (svB (atO l v) m fs) u w'))
theorem fin_rs {w W : World} {g : Nat} {n0 : Int} {f0 : Value} {b0 : ByteArray} (hb : Below w.heap.size w W) (hg : RsB W g n0 f0 b0) (hgw : w.heap.size ≤ g) (n : Int) (y : SV) (b : ByteArray) (l : List Fd) (hr : R EFd W (sv y) l) (hn : ∀ k, (sv y).ownBlock = some k → w.heap.size ≤ k) :
    RsB (((W.setCell ⟨g, 0, none⟩ (.int .i64 n)).setCell ⟨g, 1, none⟩ (sv y)).setCell ⟨g, 2, none⟩ (.string b)) g n (sv y) b ∧ RsNew w n l b (.agg (rsv n (sv y) b)) (((W.setCell ⟨g, 0, none⟩ (.int .i64 n)).setCell ⟨g, 1, none⟩ (sv y)).setCell ⟨g, 2, none⟩ (.string b)) ∧ Below w.heap.size w (((W.setCell ⟨g, 0, none⟩ (.int .i64 n)).setCell ⟨g, 1, none⟩ (sv y)).setCell ⟨g, 2, none⟩ (.string b)) :=
  ⟨rs_sets hg _ _ _, ⟨y, rfl, hr.stays fun k hk hl => rs_other _ _ _ (fun e => row_not hr hg (by decide) (by rw [← e]; exact hk)) _ _ _, hn⟩, hb.trans (rs_below _ _ _ hgw _ _ _)⟩
set_option maxHeartbeats 8000000 in
set_option maxRecDepth 100000 in
theorem serve_any (lo g b N : Nat) (nv v : Int) (L : List Te) (m s a p : ByteArray) (x : SV) (bd : ByteArray) (fs : List Fd) (w : World) (hS : Si w lo g b N nv L) (hI : In EFd w (sv x) fs) (ht : Tab w) (htz : tz (a, p)) (hz : (edL L (a, p)).length ≤ 140737488355328) (hso : Ris (edL L (a, p)))
    (hzE : ∀ e ∈ edL L (a, p), e.v.size ≤ 281474976710656 ∧ ∀ c ∈ e.l, c.b.size ≤ 281474976710656) :
    Calls Tryd.prog 11 #[.pointer (some ⟨g, 0, none⟩), .int .i64 v, .agg (rqv m s a p (sv x) bd)] w fun r w' => SvPost nv v (edL L (a, p)) m fs w r w' := by
  obtain ⟨xb, xl, xc⟩ := x
  obtain ⟨W0, hW0⟩ : ∃ W0, W0 = (w.alloc (.cells #[.string m, .string s, .string a, .string p, .slice xb xl xc, .string bd] 41)).alloc (.cells #[.int .i64 0, .slice none 0 0, .string ⟨#[]⟩] 37) := ⟨_, rfl⟩
  have HB0 : Hid (Below w.heap.size w W0) := by rw [hW0]; exact bel2 _ _ _
  obtain ⟨n0, hn0⟩ : ∃ n0, n0 = w.heap.size := ⟨_, rfl⟩
  obtain ⟨n1, hn1⟩ : ∃ n1, n1 = w.heap.size + 1 := ⟨_, rfl⟩
  have HF0 : Hid (W0.heap[n0]? = some (.cells #[.string m, .string s, .string a, .string p, .slice xb xl xc, .string bd] 41 (0, 0))) := by
    show _ = _
    rw [hW0, hn0, heap_al, if_neg (by simp), heap_al, if_pos (by simp)]
  have HF1 : Hid (W0.heap[n1]? = some (.cells #[.int .i64 0, .slice none 0 0, .string ⟨#[]⟩] 37 (0, 0))) := by
    show _ = _
    rw [hW0, hn1, heap_al, if_pos (by simp)]
  have HN1 : Hid (w.heap.size ≤ n1) := by show _ ≤ _; omega
  have HS : Hid (Si W0 lo g b N nv L) := hS.below HB0.out
  have hV : Hid (Calls Tryd.prog 36 #[.pointer (some ⟨g, 0, none⟩), .int .i64 v] W0 fun e w' => e = .returned (.bool (ivB nv v)) ∧ w' = W0) := isVersion_any lo g b N nv v L W0 HS.out
  have hA : Hid (Calls Tryd.prog 37 #[.pointer (some ⟨g, 0, none⟩), .int .i64 v, .agg #[.string a, .string p]] W0 fun e w' => AtR (edL L (a, p)) v e ∧ Below W0.heap.size W0 w') := at_any lo g b N nv v L (a, p) W0 HS.out htz hz
  have HSZ : Hid (∀ V, Below w.heap.size w V → Calls Tryd.prog 38 #[.int .i64 0] V fun e w' => ∃ y : SV, e = .returned (sv y) ∧ Below V.heap.size V w' ∧ R EFd w' (sv y) [szF 0] ∧ ∀ j, (sv y).ownBlock = some j → V.heap.size ≤ j) := fun V hV => sized_any 0 (by omega) (by omega) V (ht.below hV)
  obtain ⟨l, hl⟩ : ∃ l, edL L (a, p) = l := ⟨_, rfl⟩
  have HCH : Hid (∀ e ∈ l, R ECh w (sv e.y) e.l ∧ e.l ≠ []) := fun e he => by
    rw [← hl] at he
    unfold edL at he
    cases hf : fdT L (a, p) with
    | none => rw [hf] at he; simp at he
    | some r =>
      rw [hf] at he
      have h := hS.sr.ch r (List.mem_of_find?_eq_some hf) e he
      exact ⟨h.1, h.2.1⟩
  have HI : Hid (In EFd w (sv (xb, xl, xc)) fs) := hI
  have HT : Hid (Tab w) := ht
  rw [hl] at hA hso hzE ⊢
  have HSO : Hid (Ris l) := hso
  have HZE : Hid (∀ e ∈ l, e.v.size ≤ 281474976710656 ∧ ∀ c ∈ e.l, c.b.size ≤ 281474976710656) := hzE
  clear hS hI ht htz hz hl hso hzE
  unfold rqv
  simp only [sv]
  go_enter Tryd.func11, Tryd.ntmps11
  go_upto_region 1 with fail
  rw [← hW0, ← hn1, ← hn0]
  clear hW0 hn0 hn1
  go_wp2_with fail
  go_at_call 36
  refine hV.out.mono ?_
  rintro e w1 ⟨rfl, hw1⟩
  replace hw1 := hw1.symm
  subst hw1
  clear hV
  have p0 := cell_blk HF1.out 0
  have p1 := cell_blk HF1.out 1
  have p2 := cell_blk HF1.out 2
  have z0 := frozen_blk HF1.out 0
  have z1 := frozen_blk HF1.out 1
  have z2 := frozen_blk HF1.out 2
  have c2 := cell_blk HF0.out 2
  have c3 := cell_blk HF0.out 3
  simp at p0 p1 p2 c2 c3
  cases hiv : ivB nv v
  · have HIV : Hid (ivB nv v = false) := hiv
    clear hiv
    simp only [Bool.not_false]
    go_wp2_with fail
    have hX := fin_rs HB0.out HF1.out HN1.out 0 (none, 0, 0) ⟨#[]⟩ [] (R.nil _ _) (fun k hk => by simp [sv, Value.ownBlock] at hk)
    refine bodyPost_ret (results_ct (p := 6) (ty := 37) (r := 7) rfl _ _ n1 37 _ (0, 0) _ rfl hX.1 Tryd.underlying37 rfl (by kernel_rfl)) rfl ?_
    exact ⟨hX.2.2, .inl ⟨HIV.out, rfl⟩⟩
  · have HIV : Hid (ivB nv v = true) := hiv
    clear hiv
    simp only [Bool.not_true]
    go_wp2_with fail
    go_at_call 37
    refine hA.out.mono ?_
    rintro e w1 ⟨⟨r, hPl, he⟩, hb1⟩
    have HPl : Hid (atO l v = plO l r) := pl_at l v r HSO.out hPl
    clear hA hPl p0 p1 p2 z0 z1 z2 c2 c3
    rcases he with ⟨rfl, rfl⟩ | ⟨k, hk, rfl, rfl⟩
    · obtain ⟨W2, hW2⟩ : ∃ W2, W2 = w1.alloc (.cells #[.int .i64 0, .int .i64 0, .string ⟨#[]⟩, .slice none 0 0] 83) := ⟨_, rfl⟩
      have HB2 : Hid (Below W0.heap.size W0 W2) := by rw [hW2]; exact hb1.trans ((bel1 _ _).mono hb1.size)
      have HW2 : Hid (Below w.heap.size w W2) := HB0.out.trans (HB2.out.mono HB0.out.size)
      clear hb1
      go_upto_region 4 with fail
      rw [← hW2]
      clear hW2
      go_wp2_with fail
      go_at_call 38
      refine (HSZ.out _ HW2.out).mono ?_
      rintro e w3 ⟨⟨yb, yl, yc⟩, rfl, hb3, hR, hn⟩
      have HB3 : Hid (Below w.heap.size w w3) := HW2.out.trans (hb3.mono HW2.out.size)
      have HR : Hid (R EFd w3 (sv (yb, yl, yc)) [szF 0]) := hR
      have HNN : Hid (∀ j, (sv (yb, yl, yc)).ownBlock = some j → w.heap.size ≤ j) := fun j hj => Nat.le_trans HW2.out.size (hn j hj)
      have HG : Hid (RsB w3 n1 0 (.slice none 0 0) ⟨#[]⟩) := (hb3.block _ (heap_lt ((HB2.out.block _ (heap_lt HF1.out)).trans HF1.out))).trans ((HB2.out.block _ (heap_lt HF1.out)).trans HF1.out)
      clear hb3 hR hn
      have hp := HG.out
      unfold RsB rsv at hp
      have p0 := cell_blk hp 0
      have p1 := cell_blk hp 1
      have p2 := cell_blk hp 2
      have z0 := frozen_blk hp 0
      have z1 := frozen_blk hp 1
      have z2 := frozen_blk hp 2
      simp at p0 p1 p2
      clear hp
      simp only [sv]
      go_wp2_with fail
      have hX := fin_rs HB3.out HG.out HN1.out 404 (yb, yl, yc) ⟨#[]⟩ _ HR.out HNN.out
      refine bodyPost_ret (results_ct (p := 6) (ty := 37) (r := 7) rfl _ _ n1 37 _ (0, 0) _ rfl hX.1 Tryd.underlying37 rfl (by kernel_rfl)) rfl ?_
      refine ⟨hX.2.2, .inr ⟨HIV.out, _, rfl, ?_⟩⟩
      rw [HPl.out]
      exact hX.2.1
    · obtain ⟨y, hy⟩ : ∃ y, l[k] = y := ⟨_, rfl⟩
      have HY : Hid (atO l v = some y) := by rw [HPl.out]; show l[k]? = _; rw [List.getElem?_eq_getElem hk, hy]
      have hym : y ∈ l := by rw [← hy]; exact List.getElem_mem _
      obtain ⟨ch1, ch2⟩ := HCH.out y hym
      obtain ⟨ze1, ze2⟩ := HZE.out y hym
      have HAN : Hid (∀ V, Below w.heap.size w V → Calls Tryd.prog 39 #[.agg (edv y), .agg (rqv m s a p (sv (xb, xl, xc)) bd)] V fun r w' => (∃ v, r = .returned v ∧ RsNew V y.n (szF ((chS y fs).b.size : Int) :: vyL y.v) (anB m (chS y fs).b) v w') ∧ Below V.heap.size V w') := fun V hV => answer_any y m s a p (xb, xl, xc) bd fs V (ch1.isIn.below hV) ch2 (HI.out.below hV) (HT.out.below hV) ze1 (by
        have hlt := chI_lt y fs ch2
        have : chS y fs = y.l[chI y fs] := by unfold chS; rw [List.getElem?_eq_getElem hlt]
        rw [this]
        exact ze2 _ (List.getElem_mem _))
      have HSV : Hid (svN (atO l v) m = (if isM m = true then y.n else 405) ∧ svL (atO l v) m fs = (if isM m = true then szF ((chS y fs).b.size : Int) :: vyL y.v else [szF 0, alF]) ∧ svB (atO l v) m fs = (if isM m = true then anB m (chS y fs).b else ⟨#[]⟩)) := by rw [HY.out]; exact ⟨rfl, rfl, rfl⟩
      rw [hy]
      obtain ⟨LL, hLL⟩ : ∃ LL, szF ((chS y fs).b.size : Int) :: vyL y.v = LL := ⟨_, rfl⟩
      obtain ⟨BB, hBB⟩ : ∃ BB, anB m (chS y fs).b = BB := ⟨_, rfl⟩
      rw [hLL, hBB] at HAN HSV
      obtain ⟨ys, yn, yv, ⟨ya, yd, ye⟩, yl⟩ := y
      unfold edv rqv at HAN
      unfold edv
      simp only [sv] at HAN HSV ⊢
      obtain ⟨W2, hW2⟩ : ∃ W2, W2 = w1.alloc (.cells #[.int .i64 ys, .int .i64 yn, .string yv, .slice ya yd ye] 83) := ⟨_, rfl⟩
      obtain ⟨n9, hn9⟩ : ∃ n9, n9 = w1.heap.size := ⟨_, rfl⟩
      have HF9 : Hid (W2.heap[n9]? = some (.cells #[.int .i64 ys, .int .i64 yn, .string yv, .slice ya yd ye] 83 (0, 0))) := by show _ = _; rw [hW2, hn9, heap_al, if_pos rfl]
      have HB2 : Hid (Below W0.heap.size W0 W2) := by rw [hW2]; exact hb1.trans ((bel1 _ _).mono hb1.size)
      have HW2 : Hid (Below w.heap.size w W2) := HB0.out.trans (HB2.out.mono HB0.out.size)
      have HG2 : Hid (W2.heap[n1]? = some (.cells #[.int .i64 0, .slice none 0 0, .string ⟨#[]⟩] 37 (0, 0))) := (HB2.out.block _ (heap_lt HF1.out)).trans HF1.out
      have hq := (HB2.out.block _ (heap_lt HF0.out)).trans HF0.out
      have c0 := cell_blk hq 0
      have c1 := cell_blk hq 1
      have c2 := cell_blk hq 2
      have c3 := cell_blk hq 3
      have c4 := cell_blk hq 4
      have c5 := cell_blk hq 5
      have d0 := cell_blk HF9.out 0
      have d1 := cell_blk HF9.out 1
      have d2 := cell_blk HF9.out 2
      have d3 := cell_blk HF9.out 3
      simp at c0 c1 c2 c3 c4 c5 d0 d1 d2 d3
      clear hq hb1 hy hk hym ch1 ch2 ze1 ze2 hLL hBB HY HPl HCH HZE
      go_upto_region 4 with fail
      rw [← hW2, ← hn9]
      clear hW2 hn9
      have KEY : Hid (∀ (g1 : (m.toList == [71, 69, 84]) = true ∨ (m.toList == [72, 69, 65, 68]) = true), isM m = true) := fun g1 => by unfold isM; rcases g1 with g1 | g1 <;> simp [g1]
      have ANS : Hid (Calls Tryd.prog 39 #[.agg #[.int .i64 ys, .int .i64 yn, .string yv, .slice ya yd ye], .agg #[.string m, .string s, .string a, .string p, .slice xb xl xc, .string bd]] W2 fun r w' => (∃ v, r = .returned v ∧ RsNew W2 yn LL BB v w') ∧ Below W2.heap.size W2 w') := HAN.out _ HW2.out
      clear HAN
      cases hg1 : (m.toList == [71, 69, 84])
      · cases hg2 : (m.toList == [72, 69, 65, 68])
        · have HIM : Hid (isM m = false) := by show _ = _; unfold isM; rw [hg1, hg2]; rfl
          go_wp2_with fail
          go_at_call 38
          refine (HSZ.out _ HW2.out).mono ?_
          rintro e w3 ⟨⟨yb, yl2, yc⟩, rfl, hb3, hR, hn⟩
          obtain ⟨W4, hW4⟩ : ∃ W4, W4 = w3.alloc (.cells #[.string ⟨#[97, 108, 108, 111, 119]⟩, .string ⟨#[71, 69, 84, 44, 32, 72, 69, 65, 68]⟩, .bool false] 44) := ⟨_, rfl⟩
          have hB4 : Below W2.heap.size W2 W4 := by rw [hW4]; exact hb3.trans ((bel1 _ _).mono hb3.size)
          have hIn : In EFd W4 (.slice (some ⟨w3.heap.size, 0, none⟩) 1 1) [alF] := in_one (E := EFd) _ _ alF #[.string ⟨#[97, 108, 108, 111, 119]⟩, .string ⟨#[71, 69, 84, 44, 32, 72, 69, 65, 68]⟩, .bool false] 44 (0, 0) (by rw [hW4, heap_al, if_pos rfl]) rfl
          obtain ⟨bs, cc, w5, hrun, hR5, hG5⟩ := Go.Proofs.YtcadlpmopplkeaaDoor.app okFd W4 (sv (yb, yl2, yc)) [szF 0] (by rw [hW4]; exact hR.below (bel1 _ _)) _ [alF] hIn (by simp [EFd])
          simp only [List.length_singleton, sv] at hrun
          have HRUN : Hid ((Builtin.append_ #[35, 35] 35 #[.slice yb yl2 yc, .slice (some ⟨w3.heap.size, 0, none⟩) 1 1]).run Tryd.prog W4 = .ok (.slice bs (1 + 1) cc) w5) := hrun
          have hnn : ∀ j, (sv (yb, yl2, yc)).ownBlock = some j → W2.heap.size ≤ j := hn
          have HB5 : Hid (Below W2.heap.size W2 w5) := hB4.trans (hG5.belowB hB4.size hnn)
          have HBW5 : Hid (Below w.heap.size w w5) := HW2.out.trans (HB5.out.mono HW2.out.size)
          have HR5 : Hid (R EFd w5 (sv (bs, 1 + 1, cc)) [szF 0, alF]) := hR5
          have HN5 : Hid (∀ j, (sv (bs, 1 + 1, cc)).ownBlock = some j → w.heap.size ≤ j) := fun j hj => by
            rcases hG5.own j hj with h' | h'
            · exact Nat.le_trans HW2.out.size (hnn j h')
            · have := hB4.size; have := HW2.out.size; omega
          have HG5 : Hid (RsB w5 n1 0 (.slice none 0 0) ⟨#[]⟩) := (HB5.out.block _ (heap_lt HG2.out)).trans HG2.out
          have hp := HG5.out
          unfold RsB rsv at hp
          have p0 := cell_blk hp 0
          have p1 := cell_blk hp 1
          have p2 := cell_blk hp 2
          have z0 := frozen_blk hp 0
          have z1 := frozen_blk hp 1
          have z2 := frozen_blk hp 2
          simp at p0 p1 p2
          clear hp hR5 hG5 hrun hB4 hb3 hIn hR hn hnn
          simp only [sv]
          subst hW4
          go_wp2_with (at_builtin; refine Lib.wpList_append_run _ rfl _ _ _ _ rfl _ _ rfl rfl _ _ HRUN.out ?_)
          have hX := fin_rs HBW5.out HG5.out HN1.out 405 (bs, 1 + 1, cc) ⟨#[]⟩ _ HR5.out HN5.out
          refine bodyPost_ret (results_ct (p := 6) (ty := 37) (r := 7) rfl _ _ n1 37 _ (0, 0) _ rfl hX.1 Tryd.underlying37 rfl (by kernel_rfl)) rfl ?_
          refine ⟨hX.2.2, .inr ⟨HIV.out, _, rfl, ?_⟩⟩
          rw [HSV.out.1, HSV.out.2.1, HSV.out.2.2, HIM.out]
          exact hX.2.1
        · have HIM : Hid (isM m = true) := KEY.out (.inr hg2)
          go_wp2_with fail
          go_at_call 39
          refine ANS.out.mono ?_
          rintro e w3 ⟨⟨u, rfl, ⟨yb, yl2, yc⟩, rfl, hR, hn⟩, hb3⟩
          have HB3 : Hid (Below w.heap.size w w3) := HW2.out.trans (hb3.mono HW2.out.size)
          have HR : Hid (R EFd w3 (sv (yb, yl2, yc)) LL) := hR
          have HNN : Hid (∀ j, (sv (yb, yl2, yc)).ownBlock = some j → w.heap.size ≤ j) := fun j hj => Nat.le_trans HW2.out.size (hn j hj)
          have HG : Hid (RsB w3 n1 0 (.slice none 0 0) ⟨#[]⟩) := (hb3.block _ (heap_lt HG2.out)).trans HG2.out
          clear hb3 hR hn
          have hp := HG.out
          unfold RsB rsv at hp
          have p0 := cell_blk hp 0
          have p1 := cell_blk hp 1
          have p2 := cell_blk hp 2
          have z0 := frozen_blk hp 0
          have z1 := frozen_blk hp 1
          have z2 := frozen_blk hp 2
          simp at p0 p1 p2
          clear hp
          unfold rsv
          simp only [sv]
          go_wp2_with fail
          have hX := fin_rs HB3.out HG.out HN1.out yn (yb, yl2, yc) BB _ HR.out HNN.out
          refine bodyPost_ret (results_ct (p := 6) (ty := 37) (r := 7) rfl _ _ n1 37 _ (0, 0) _ rfl hX.1 Tryd.underlying37 rfl (by kernel_rfl)) rfl ?_
          refine ⟨hX.2.2, .inr ⟨HIV.out, _, rfl, ?_⟩⟩
          rw [HSV.out.1, HSV.out.2.1, HSV.out.2.2, if_pos HIM.out, if_pos HIM.out, if_pos HIM.out]
          exact hX.2.1
      · have HIM : Hid (isM m = true) := KEY.out (.inl hg1)
        go_wp2_with fail
        go_at_call 39
        refine ANS.out.mono ?_
        rintro e w3 ⟨⟨u, rfl, ⟨yb, yl2, yc⟩, rfl, hR, hn⟩, hb3⟩
        have HB3 : Hid (Below w.heap.size w w3) := HW2.out.trans (hb3.mono HW2.out.size)
        have HR : Hid (R EFd w3 (sv (yb, yl2, yc)) LL) := hR
        have HNN : Hid (∀ j, (sv (yb, yl2, yc)).ownBlock = some j → w.heap.size ≤ j) := fun j hj => Nat.le_trans HW2.out.size (hn j hj)
        have HG : Hid (RsB w3 n1 0 (.slice none 0 0) ⟨#[]⟩) := (hb3.block _ (heap_lt HG2.out)).trans HG2.out
        clear hb3 hR hn
        have hp := HG.out
        unfold RsB rsv at hp
        have p0 := cell_blk hp 0
        have p1 := cell_blk hp 1
        have p2 := cell_blk hp 2
        have z0 := frozen_blk hp 0
        have z1 := frozen_blk hp 1
        have z2 := frozen_blk hp 2
        simp at p0 p1 p2
        clear hp
        unfold rsv
        simp only [sv]
        go_wp2_with fail
        have hX := fin_rs HB3.out HG.out HN1.out yn (yb, yl2, yc) BB _ HR.out HNN.out
        refine bodyPost_ret (results_ct (p := 6) (ty := 37) (r := 7) rfl _ _ n1 37 _ (0, 0) _ rfl hX.1 Tryd.underlying37 rfl (by kernel_rfl)) rfl ?_
        refine ⟨hX.2.2, .inr ⟨HIV.out, _, rfl, ?_⟩⟩
        rw [HSV.out.1, HSV.out.2.1, HSV.out.2.2, if_pos HIM.out, if_pos HIM.out, if_pos HIM.out]
        exact hX.2.1
end Go.Proofs.YtcadlpmopplkeaaDoor
