/- the law's right. -/
import Derived.Test.YtacboeeimnikdaaDoorH1
import Derived.Test.YtacboeeimnikdaaDoorG0
import Derived.Lib.MinMax
import Derived.Deep.CutRange
namespace Go.Proofs.YtacboeeimnikdaaDoor
open Go.RowKit Go.Maps
open Go.Shelf
set_option linter.unusedVariables false
set_option linter.unusedSimpArgs false

theorem chrow_not {w : World} {q : Nat} {y : SV} {l : List Ch} {c : Array Value} {t : TypeId} (hr : R ECh w (sv y) l) (hb : w.heap[q]? = some (.cells c t (0, 0))) (ht : t ≠ 29) : (sv y).ownBlock ≠ some q := fun e => by
  obtain ⟨cc, hc⟩ := hr.ty q e
  rw [hb] at hc
  injection hc with hc
  injection hc with _ hc
  exact ht hc
/-- a page that is being made, in a box of its own -/
structure Gq (w wr : World) (q : Nat) (a p : ByteArray) (n : Int) (v : ByteArray) (y : SV) (l : List Ch) : Prop where
  bel : Below w.heap.size w wr
  blk : wr.heap[q]? = some (.cells #[.string a, .string p, .int .i64 n, .string v, sv y] 26 (0, 0))
  row : R ECh wr (sv y) l
  new : ∀ k, (sv y).ownBlock = some k → w.heap.size ≤ k
  hq : w.heap.size ≤ q
theorem Gq.below {w wx wy : World} {q : Nat} {a p v : ByteArray} {n : Int} {y : SV} {l : List Ch} (h : Gq w wx q a p n v y l) (hb : Below wx.heap.size wx wy) : Gq w wy q a p n v y l :=
  ⟨h.bel.trans (hb.mono h.bel.size), (hb.block _ (heap_lt h.blk)).trans h.blk, h.row.below hb, h.new, h.hq⟩
theorem Gq.set {w W : World} {q c o : Nat} {a p v : ByteArray} {n : Int} {y : SV} {l : List Ch} (h : Gq w W q a p n v y l) (u : Value) (hc : w.heap.size ≤ c) (hcq : c ≠ q) (hcy : (sv y).ownBlock ≠ some c) : Gq w (W.setCell ⟨c, o, none⟩ u) q a p n v y l :=
  ⟨h.bel.setCell (p := ⟨c, o, none⟩) hc _, (setCell_other _ _ _ _ _ (Ne.symm hcq)).trans h.blk, h.row.stays fun k hk _ => setCell_other _ _ _ _ _ fun e => hcy (by rw [← e]; exact hk), h.new, h.hq⟩
theorem Gq.app {w W : World} {q : Nat} {a p v : ByteArray} {n : Int} {y : SV} {l : List Ch} (h : Gq w W q a p n v y l) (f : Ch) (x : Value) (hx : In ECh W x [f]) (hz : (l.length + 1) * 32 ≤ 140737488355328) :
    ∃ bs m c w2, (Builtin.append_ #[24, 24] 24 #[sv y, x]).run Tryd.prog W = .ok (.slice bs m c) w2 ∧ w2.heap[q]? = some (.cells #[.string a, .string p, .int .i64 n, .string v, sv y] 26 (0, 0)) ∧ Gq w (w2.setCell ⟨q, 4, none⟩ (.slice bs m c)) q a p n v (bs, m, c) (l ++ [f]) := by
  obtain ⟨bs, c, w2, hrun, hR, hG⟩ := Go.Proofs.YtacboeeimnikdaaDoor.app okCh W (sv y) l h.row x [f] hx (by simpa [ECh] using hz)
  simp only [List.length_singleton] at hrun hR hG
  have hB2 : Below w.heap.size W w2 := hG.belowB h.bel.size h.new
  have hq2 : w2.heap[q]? = some (.cells #[.string a, .string p, .int .i64 n, .string v, sv y] 26 (0, 0)) := (hG.block q (heap_lt h.blk) (chrow_not h.row h.blk (by decide))).trans h.blk
  refine ⟨bs, _, c, w2, hrun, hq2, ⟨(h.bel.trans hB2).setCell (p := ⟨q, 4, none⟩) h.hq _, ?_, ?_, ?_, h.hq⟩⟩
  · rw [setCell_block _ _ _ _ _ _ _ hq2]
    rfl
  · exact R.stays (o := sv (bs, l.length + 1, c)) hR fun k hk hl => setCell_other _ _ _ _ _ fun e => chrow_not (y := (bs, l.length + 1, c)) hR hq2 (by decide) (by rw [← e]; exact hk)
  · intro k hk
    rcases hG.own k hk with h' | h'
    · exact h.new k h'
    · have := h.bel.size; omega
theorem Gq.cells {w wr : World} {q : Nat} {a p v : ByteArray} {n : Int} {y : SV} {l : List Ch} (h : Gq w wr q a p n v y l) : wr.cell? ⟨q, 0, none⟩ = some (.string a) ∧ wr.cell? ⟨q, 1, none⟩ = some (.string p) ∧ wr.cell? ⟨q, 2, none⟩ = some (.int .i64 n) ∧ wr.cell? ⟨q, 3, none⟩ = some (.string v) ∧ wr.cell? ⟨q, 4, none⟩ = some (sv y) :=
  ⟨cell_blk h.blk 0, cell_blk h.blk 1, cell_blk h.blk 2, cell_blk h.blk 3, cell_blk h.blk 4⟩
def GqE (w wr : World) (q : Nat) (p v : ByteArray) (l : List Ch) : Prop := ∃ y : SV, Gq w wr q aTest p 200 v y l
/-- what right makes -/
def rtK (n : Int) : Nat := (n.tmod 3).natAbs
def rtV (k : Nat) : ByteArray := if k = 1 then ⟨#[42]⟩ else if k = 2 then acc else e0S
def rtN (k len : Nat) : Nat := if k = 2 then min 8 (max 1 len) else 1
def rtC (k : Nat) (cs : List Ch) (i : Nat) : Ch := ⟨if k = 2 then vS i else e0S, match cs[i]? with | some c => cutB c.b | none => e0S⟩
def rtT (k : Nat) (cs : List Ch) (j : Nat) : List Ch := (List.range j).map (rtC k cs)
def rtL (n : Int) (cs : List Ch) : List Ch := rtT (rtK n) cs (rtN (rtK n) cs.length)
def rtP (p : ByteArray) : ByteArray := ⟨#[47]⟩ ++ wdS p
theorem rtT_succ (k : Nat) (cs : List Ch) (j : Nat) : rtT k cs (j + 1) = rtT k cs j ++ [rtC k cs j] := by
  unfold rtT
  rw [List.range_succ, List.map_append]
  rfl
theorem rtT_len (k : Nat) (cs : List Ch) (j : Nat) : (rtT k cs j).length = j := by simp [rtT]
theorem rtK_lt (n : Int) : rtK n < 3 := by
  unfold rtK
  rw [Int.natAbs_tmod]
  exact Nat.mod_lt _ (by decide)
theorem wd_size (s : ByteArray) : (wdS s).size ≤ 3 := by
  unfold wdS
  rw [bt_size]
  unfold wdL
  simp
  omega
theorem vS_of (k : Nat) (I : ByteArray) (h : itoaS (k : Int) = I) : (⟨#[118]⟩ : ByteArray) ++ I = vS k := by rw [← h]; rfl
def RtP (x : Pg) (cs : List Ch) (w : World) (e : Ending) (w' : World) : Prop := ∃ y : SV, e = .returned (.agg (pgv ⟨aTest, rtP x.p, 200, rtV (rtK x.n), y⟩)) ∧ Below w.heap.size w w' ∧ R ECh w' (sv y) (rtL x.n cs) ∧ ∀ k, (sv y).ownBlock = some k → w.heap.size ≤ k
set_option maxHeartbeats 16000000 in
set_option maxRecDepth 100000 in
theorem right_any (x : Pg) (cs : List Ch) (w : World) (hI : In ECh w (sv x.ys) cs) (ht : Tab w) :
    Calls Tryd.prog 19 #[.agg (pgv x)] w fun e w' => RtP x cs w e w' := by
  have HI : Hid (In ECh w (sv x.ys) cs) := hI
  have HT : Hid (Tab w) := ht
  obtain ⟨xa, xp, xn, xv, ⟨xb, xl, xc⟩⟩ := x
  obtain ⟨b0, c0, e0, m1, m2⟩ := hI.slice
  simp only [sv] at e0 HI
  injection e0 with e1 e2 e3
  subst e1 e2 e3
  clear hI ht
  unfold pgv
  simp only [sv]
  obtain ⟨K, hK⟩ : ∃ K, K = rtK xn := ⟨_, rfl⟩
  have HK3 : Hid (K < 3) := by rw [hK]; exact rtK_lt xn
  have HL : Hid (rtL xn cs = rtT K cs (rtN K cs.length)) := by rw [hK]; rfl
  have HKn : Hid (K = (xn.tmod 3).natAbs) := hK
  have HLZ : Hid (cs.length ≤ 9223372036854775807) := Nat.le_trans m1 m2
  obtain ⟨W0, hW0⟩ : ∃ W0, W0 = (w.alloc (.cells #[.string xa, .string xp, .int .i64 xn, .string xv, .slice xb cs.length xc] 26)).alloc (.cells #[.string ⟨#[]⟩, .string ⟨#[]⟩, .int .i64 0, .string ⟨#[]⟩, .slice none 0 0] 26) := ⟨_, rfl⟩
  have HB0 : Hid (Below w.heap.size w W0) := by rw [hW0]; exact bel2 _ _ _
  obtain ⟨n0, hn0⟩ : ∃ n0, n0 = w.heap.size := ⟨_, rfl⟩
  obtain ⟨n1, hn1⟩ : ∃ n1, n1 = w.heap.size + 1 := ⟨_, rfl⟩
  have HF0 : Hid (W0.heap[n0]? = some (.cells #[.string xa, .string xp, .int .i64 xn, .string xv, .slice xb cs.length xc] 26 (0, 0))) := by
    show _ = _
    rw [hW0, hn0, heap_al, if_neg (by simp), heap_al, if_pos (by simp)]
  have HF1 : Hid (W0.heap[n1]? = some (.cells #[.string ⟨#[]⟩, .string ⟨#[]⟩, .int .i64 0, .string ⟨#[]⟩, .slice none 0 0] 26 (0, 0))) := by
    show _ = _
    rw [hW0, hn1, heap_al, if_pos (by simp)]
  have HN1 : Hid (w.heap.size ≤ n1 ∧ n1 < W0.heap.size) := ⟨by omega, heap_lt HF1.out⟩
  have CW : Hid (Calls Tryd.prog 18 #[.string xp] W0 fun e w' => e = .returned (.string (wdS xp)) ∧ Below W0.heap.size W0 w') := word_any xp W0
  obtain ⟨P, hP⟩ : ∃ P, rtP xp = P := ⟨_, rfl⟩
  have HPE : Hid (rtP xp = P) := hP
  have HKE : Hid (rtK xn = K) := hK.symm
  obtain ⟨T, hTe⟩ : ∃ T, wdS xp = T := ⟨_, rfl⟩
  have HPP : Hid ((⟨#[47]⟩ : ByteArray) ++ T = P) := by rw [← hP, ← hTe]; rfl
  have hsd : ¬ (9223372036854775807 < 1 + T.size) := by have := wd_size xp; rw [hTe] at this; omega
  rw [hTe] at CW
  have c1 := cell_blk HF0.out 1
  simp at c1
  clear hP hTe hK m1 m2
  go_enter Tryd.func19, Tryd.ntmps19
  go_upto_region 1 with fail
  rw [← hW0, ← hn1, ← hn0]
  clear hW0 hn0 hn1
  go_wp2_with fail
  go_at_call 18
  refine CW.out.mono ?_
  rintro e w1 ⟨rfl, hb1⟩
  obtain ⟨W1, hW1⟩ : ∃ W1, W1 = w1.alloc (.cells #[.string ⟨#[97, 46, 116, 101, 115, 116]⟩, .string (⟨#[47]⟩ ++ T), .int .i64 200, .string ⟨#[]⟩, .slice none 0 0] 26) := ⟨_, rfl⟩
  obtain ⟨q, hq⟩ : ∃ q, q = w1.heap.size := ⟨_, rfl⟩
  have HB1 : Hid (Below W0.heap.size W0 W1) := by rw [hW1]; exact hb1.trans ((bel1 _ _).mono hb1.size)
  have HBW : Hid (Below w.heap.size w W1) := HB0.out.trans (HB1.out.mono HB0.out.size)
  have HQ : Hid (W1.heap[q]? = some (.cells #[.string aTest, .string P, .int .i64 200, .string ⟨#[]⟩, .slice none 0 0] 26 (0, 0))) := by show _ = _; rw [hW1, hq, heap_al, if_pos rfl, HPP.out]; rfl
  have HQ0 : Hid (W0.heap.size ≤ q) := by rw [hq]; exact hb1.size
  clear hb1 CW c1
  go_upto_region 2 with fail
  rw [← hW1, ← hq]
  clear hW1 hq hsd
  have c2 := cell_blk ((HB1.out.block _ (heap_lt HF0.out)).trans HF0.out) 2
  simp at c2
  go_upto_if 17 with fail
  go_cut [4] from 8 (fun kv wx => kv = .int .i64 (K : Int) ∧ wx = W1)
  case first =>
    by_cases hneg : xn.tmod 3 < 0
    · have hk1 : -(xn.tmod 3) = (K : Int) := by have := HKn.out; omega
      have hk2 : wrap64 (K : Int) = (K : Int) := by have := HK3.out; unfold wrap64; omega
      go_wp2_with fail
      go_meet
      case rel => exact ⟨by first | rfl | (rw [hk1]) | (rw [hk2]), rfl⟩
    · have hk1 : xn.tmod 3 = (K : Int) := by have := HKn.out; omega
      go_wp2_with fail
      go_meet
      case rel => exact ⟨by first | rfl | (rw [hk1]), rfl⟩
  case rest =>
    obtain ⟨rfl, hw⟩ := hcut
    replace hw := hw.symm
    subst hw
    clear c2 HKn
    have g4 := cell_blk ((HB1.out.block _ (heap_lt HF0.out)).trans HF0.out) 4
    have hq' := HQ.out
    have q3 := cell_blk hq' 3
    have z3 := frozen_blk hq' 3
    simp at g4 q3
    clear hq'
    have hK012 : K = 0 ∨ K = 1 ∨ K = 2 := by have := HK3.out; omega
    rcases hK012 with rfl | rfl | rfl
    · have HM : Hid (rtN 0 cs.length = 1) := rfl
      have HNN : Hid (1 ≤ 8) := by show _ ≤ _; omega
      have HG0 : Hid (Gq W0 W1 q aTest P 200 ⟨#[]⟩ (none, 0, 0) (rtT 0 cs 0)) := by
        exact ⟨HB1.out, HQ.out, R.nil _ _, fun k hk => by simp [sv, Value.ownBlock] at hk, HQ0.out⟩
      go_wp2_with fail
      obtain ⟨W2, hW2⟩ : ∃ W2, W2 = W1 := ⟨_, rfl⟩
      rw [← hW2] at HG0 ⊢
      clear hW2
      clear g4 q3 z3
      go_loopw [6, 7] (fun jv _ wr => ∃ j : Nat, jv = .int .i64 (j : Int) ∧ j ≤ 1 ∧ Hid (GqE W0 wr q P ⟨#[]⟩ (rtT 0 cs j))) (fun jv _ _ => 1 - (intOf jv).toNat)
      case atStart => exact ⟨0, rfl, by omega, (none, 0, 0), HG0.out⟩
      case round =>
        obtain ⟨j, rfl, hj, ⟨⟨yb, yl, yc⟩, hG'⟩⟩ := hrel
        have hG : Hid (Gq W0 wr q aTest P 200 ⟨#[]⟩ (yb, yl, yc) (rtT 0 cs j)) := hG'
        clear hG'
        clear HG0
        have hx0 := (hG.out.bel.block _ (heap_lt HF0.out)).trans HF0.out
        have hp1 := (hG.out.bel.block _ (heap_lt HF1.out)).trans HF1.out
        obtain ⟨d0, d1, d2, d3, d4⟩ := hG.out.cells
        simp only [sv] at d4
        have g4 := cell_blk hx0 4
        simp at g4
        have hn1 : ¬ n0 = wr.heap.size := by have := heap_lt hx0; omega
        have hn2 : ¬ q = wr.heap.size := by have := heap_lt hG.out.blk; omega
        by_cases hlt : j < 1
        · have hl1 : (j : Int) < 1 := by omega
          by_cases hjl : j < cs.length
          · have hl2 : (j : Int) < (cs.length : Int) := by omega
            obtain ⟨Bk, off, cap, ek, hc⟩ := HI.out.ch j hjl
            injection ek with e1 e2 e3
            subst e1
            clear e2 e3
            obtain ⟨u1, u2⟩ := hc wr (HB0.out.trans (hG.out.bel.mono HB0.out.size))
            obtain ⟨Bd, hBe'⟩ : ∃ Bd, cs[j].b = Bd := ⟨_, rfl⟩
            rw [hBe'] at u2
            have hBlt := World.block_lt_of_cell? _ _ u2
            have g4a : (wr.alloc (.cells #[.string ⟨#[]⟩, .string ⟨#[]⟩] 29)).cell? ⟨n0, 4, none⟩ = some (.slice (some ⟨Bk, off, none⟩) cs.length xc) := ((bel1 _ _).cell (p := ⟨n0, 4, none⟩) (heap_lt hx0)).trans g4
            have u2a : (wr.alloc (.cells #[.string ⟨#[]⟩, .string ⟨#[]⟩] 29)).cell? ⟨Bk, off + j * 2 + 1, none⟩ = some (.string Bd) := ((bel1 _ _).cell (p := ⟨Bk, off + j * 2 + 1, none⟩) hBlt).trans u2
            by_cases hbig : 65536 < Bd.size
            · have hb1 : (65536 : Int) < (Bd.size : Int) := by omega
              have hBe : cs[j] = ⟨cs[j].v, Bd⟩ := by rw [← hBe']
              have HCC : Hid (rtC 0 cs j = ⟨⟨#[]⟩, (Bd.extract 0 65536)⟩) := by
                show _ = _
                unfold rtC
                rw [List.getElem?_eq_getElem hjl, hBe]
                simp only
                rw [cutB, if_pos hbig]
                first | rfl | simp
              have hIn : In ECh ((wr.alloc (.cells #[.string ⟨#[]⟩, .string (Bd.extract 0 65536)] 29)).alloc (.cells #[.string ⟨#[]⟩, .string (Bd.extract 0 65536)] 29)) (.slice (some ⟨wr.heap.size + 1, 0, none⟩) 1 1) [rtC 0 cs j] := in_one (E := ECh) _ _ (rtC 0 cs j) #[.string ⟨#[]⟩, .string (Bd.extract 0 65536)] 29 (0, 0) (fresh2 _ _ _) (by rw [HCC.out]; rfl)
              obtain ⟨bx, mx, cx, w9, hrun, hq9, hA9⟩ := (hG.out.below (bel2 _ _ _)).app (rtC 0 cs j) _ hIn (by rw [rtT_len]; have := HNN.out; omega)
              rw [← rtT_succ] at hA9
              have HA9 : Hid (Gq W0 (w9.setCell ⟨q, 4, none⟩ (.slice bx mx cx)) q aTest P 200 ⟨#[]⟩ (bx, mx, cx) (rtT 0 cs (j + 1))) := hA9
              have HRUN : Hid ((Builtin.append_ #[24, 24] 24 #[.slice yb yl yc, .slice (some ⟨wr.heap.size + 1, 0, none⟩) 1 1]).run Tryd.prog ((wr.alloc (.cells #[.string ⟨#[]⟩, .string (Bd.extract 0 65536)] 29)).alloc (.cells #[.string ⟨#[]⟩, .string (Bd.extract 0 65536)] 29)) = .ok (.slice bx mx cx) w9) := hrun
              have f4 := cell_blk hq9 4
              have z4 := frozen_blk hq9 4
              simp at f4
              have d4a : (wr.alloc (.cells #[.string ⟨#[]⟩, .string (Bd.extract 0 65536)] 29)).cell? ⟨q, 4, none⟩ = some (.slice yb yl yc) := ((bel1 _ _).cell (p := ⟨q, 4, none⟩) (heap_lt hG.out.blk)).trans d4
              clear hrun hA9 hIn hq9
              go_wp2_with (at_builtin; refine Lib.wpList_append_run _ rfl _ _ _ _ rfl _ _ rfl rfl _ _ HRUN.out ?_)
              go_roundw
              case rel => exact ⟨j + 1, by simp, by omega, (bx, mx, cx), HA9.out⟩
              case measure => simp [intOf]; omega
            · have hb1 : ¬ (65536 : Int) < (Bd.size : Int) := by omega
              have hBe : cs[j] = ⟨cs[j].v, Bd⟩ := by rw [← hBe']
              have HCC : Hid (rtC 0 cs j = ⟨⟨#[]⟩, Bd⟩) := by
                show _ = _
                unfold rtC
                rw [List.getElem?_eq_getElem hjl, hBe]
                simp only
                rw [cutB, if_neg hbig]
                first | rfl | simp
              have hIn : In ECh ((wr.alloc (.cells #[.string ⟨#[]⟩, .string Bd] 29)).alloc (.cells #[.string ⟨#[]⟩, .string Bd] 29)) (.slice (some ⟨wr.heap.size + 1, 0, none⟩) 1 1) [rtC 0 cs j] := in_one (E := ECh) _ _ (rtC 0 cs j) #[.string ⟨#[]⟩, .string Bd] 29 (0, 0) (fresh2 _ _ _) (by rw [HCC.out]; rfl)
              obtain ⟨bx, mx, cx, w9, hrun, hq9, hA9⟩ := (hG.out.below (bel2 _ _ _)).app (rtC 0 cs j) _ hIn (by rw [rtT_len]; have := HNN.out; omega)
              rw [← rtT_succ] at hA9
              have HA9 : Hid (Gq W0 (w9.setCell ⟨q, 4, none⟩ (.slice bx mx cx)) q aTest P 200 ⟨#[]⟩ (bx, mx, cx) (rtT 0 cs (j + 1))) := hA9
              have HRUN : Hid ((Builtin.append_ #[24, 24] 24 #[.slice yb yl yc, .slice (some ⟨wr.heap.size + 1, 0, none⟩) 1 1]).run Tryd.prog ((wr.alloc (.cells #[.string ⟨#[]⟩, .string Bd] 29)).alloc (.cells #[.string ⟨#[]⟩, .string Bd] 29)) = .ok (.slice bx mx cx) w9) := hrun
              have f4 := cell_blk hq9 4
              have z4 := frozen_blk hq9 4
              simp at f4
              have d4a : (wr.alloc (.cells #[.string ⟨#[]⟩, .string Bd] 29)).cell? ⟨q, 4, none⟩ = some (.slice yb yl yc) := ((bel1 _ _).cell (p := ⟨q, 4, none⟩) (heap_lt hG.out.blk)).trans d4
              clear hrun hA9 hIn hq9
              go_wp2_with (at_builtin; refine Lib.wpList_append_run _ rfl _ _ _ _ rfl _ _ rfl rfl _ _ HRUN.out ?_)
              go_roundw
              case rel => exact ⟨j + 1, by simp, by omega, (bx, mx, cx), HA9.out⟩
              case measure => simp [intOf]; omega
          · have hl2 : ¬ (j : Int) < (cs.length : Int) := by omega
            have g4a : (wr.alloc (.cells #[.string ⟨#[]⟩, .string ⟨#[]⟩] 29)).cell? ⟨n0, 4, none⟩ = some (.slice xb cs.length xc) := ((bel1 _ _).cell (p := ⟨n0, 4, none⟩) (heap_lt hx0)).trans g4
            have HCC : Hid (rtC 0 cs j = ⟨⟨#[]⟩, ⟨#[]⟩⟩) := by
              show _ = _
              unfold rtC
              rw [List.getElem?_eq_none (by omega)]
              first | rfl | simp [e0S]
            have hIn : In ECh ((wr.alloc (.cells #[.string ⟨#[]⟩, .string ⟨#[]⟩] 29)).alloc (.cells #[.string ⟨#[]⟩, .string ⟨#[]⟩] 29)) (.slice (some ⟨wr.heap.size + 1, 0, none⟩) 1 1) [rtC 0 cs j] := in_one (E := ECh) _ _ (rtC 0 cs j) #[.string ⟨#[]⟩, .string ⟨#[]⟩] 29 (0, 0) (fresh2 _ _ _) (by rw [HCC.out]; rfl)
            obtain ⟨bx, mx, cx, w9, hrun, hq9, hA9⟩ := (hG.out.below (bel2 _ _ _)).app (rtC 0 cs j) _ hIn (by rw [rtT_len]; have := HNN.out; omega)
            rw [← rtT_succ] at hA9
            have HA9 : Hid (Gq W0 (w9.setCell ⟨q, 4, none⟩ (.slice bx mx cx)) q aTest P 200 ⟨#[]⟩ (bx, mx, cx) (rtT 0 cs (j + 1))) := hA9
            have HRUN : Hid ((Builtin.append_ #[24, 24] 24 #[.slice yb yl yc, .slice (some ⟨wr.heap.size + 1, 0, none⟩) 1 1]).run Tryd.prog ((wr.alloc (.cells #[.string ⟨#[]⟩, .string ⟨#[]⟩] 29)).alloc (.cells #[.string ⟨#[]⟩, .string ⟨#[]⟩] 29)) = .ok (.slice bx mx cx) w9) := hrun
            have f4 := cell_blk hq9 4
            have z4 := frozen_blk hq9 4
            simp at f4
            have d4a : (wr.alloc (.cells #[.string ⟨#[]⟩, .string ⟨#[]⟩] 29)).cell? ⟨q, 4, none⟩ = some (.slice yb yl yc) := ((bel1 _ _).cell (p := ⟨q, 4, none⟩) (heap_lt hG.out.blk)).trans d4
            clear hrun hA9 hIn hq9
            go_wp2_with (at_builtin; refine Lib.wpList_append_run _ rfl _ _ _ _ rfl _ _ rfl rfl _ _ HRUN.out ?_)
            go_roundw
            case rel => exact ⟨j + 1, by simp, by omega, (bx, mx, cx), HA9.out⟩
            case measure => simp [intOf]; omega
        · have hjN : j = 1 := by omega
          have hl1 : ¬ (j : Int) < 1 := by omega
          have r0 := cell_blk hp1 0
          have r1 := cell_blk hp1 1
          have r2 := cell_blk hp1 2
          have r3 := cell_blk hp1 3
          have r4 := cell_blk hp1 4
          have z0 := frozen_blk hp1 0
          have z1 := frozen_blk hp1 1
          have z2 := frozen_blk hp1 2
          have z3 := frozen_blk hp1 3
          have z4 := frozen_blk hp1 4
          simp at r0 r1 r2 r3 r4
          have HP1 : Hid (wr.heap[n1]? = some (.cells #[.string ⟨#[]⟩, .string ⟨#[]⟩, .int .i64 0, .string ⟨#[]⟩, .slice none 0 0] 26 (0, 0))) := hp1
          have HROW : Hid (rtL xn cs = rtT 0 cs j) := by show _ = _; rw [HL.out, HM.out, hjN]
          clear hx0 hp1 g4 hjN hj hlt
          go_wp2_with fail
          have hX : (((((wr.setCell ⟨n1, 0, none⟩ (.string aTest)).setCell ⟨n1, 1, none⟩ (.string P)).setCell ⟨n1, 2, none⟩ (.int .i64 200)).setCell ⟨n1, 3, none⟩ (.string ⟨#[]⟩)).setCell ⟨n1, 4, none⟩ (.slice yb yl yc)).heap[n1]? = some (.cells #[.string aTest, .string P, .int .i64 200, .string ⟨#[]⟩, .slice yb yl yc] 26 (0, 0)) := by
            rw [setCell_block _ _ _ _ _ _ _ (setCell_block _ _ _ _ _ _ _ (setCell_block _ _ _ _ _ _ _ (setCell_block _ _ _ _ _ _ _ (setCell_block _ _ _ _ _ _ _ HP1.out))))]
            rfl
          refine bodyPost_ret (results_cell_row (p := 2) (ty := 26) rfl _ _ n1 26 _ (0, 0) _ rfl hX Tryd.underlying26 rfl (by kernel_rfl)) rfl ?_
          refine ⟨(yb, yl, yc), by rw [HPE.out, HKE.out]; rfl, ?_, ?_, fun k hk => Nat.le_trans HB0.out.size (hG.out.new k hk)⟩
          · exact (((((HB0.out.trans (hG.out.bel.mono HB0.out.size)).setCell (p := ⟨n1, 0, none⟩) HN1.out.1 _).setCell (p := ⟨n1, 1, none⟩) HN1.out.1 _).setCell (p := ⟨n1, 2, none⟩) HN1.out.1 _).setCell (p := ⟨n1, 3, none⟩) HN1.out.1 _).setCell (p := ⟨n1, 4, none⟩) HN1.out.1 _
          · rw [HROW.out]
            exact hG.out.row.stays fun k hk _ => by
              have hne : k ≠ n1 := fun e => by have := hG.out.new k hk; have := HN1.out.2; omega
              rw [setCell_other _ _ _ _ _ hne, setCell_other _ _ _ _ _ hne, setCell_other _ _ _ _ _ hne, setCell_other _ _ _ _ _ hne, setCell_other _ _ _ _ _ hne]
    · have HM : Hid (rtN 1 cs.length = 1) := rfl
      have HNN : Hid (1 ≤ 8) := by show _ ≤ _; omega
      have HG0 : Hid (Gq W0 (W1.setCell ⟨q, 3, none⟩ (.string ⟨#[42]⟩)) q aTest P 200 ⟨#[42]⟩ (none, 0, 0) (rtT 1 cs 0)) := by
        refine ⟨HB1.out.setCell (p := ⟨q, 3, none⟩) HQ0.out _, ?_, R.nil _ _, fun k hk => by simp [sv, Value.ownBlock] at hk, HQ0.out⟩
        rw [setCell_block _ _ _ _ _ _ _ HQ.out]
        rfl
      go_wp2_with fail
      generalize (W1.setCell ⟨q, 3, none⟩ (.string ⟨#[42]⟩)) = W2 at HG0 ⊢
      clear g4 q3 z3
      go_loopw [6, 7] (fun jv _ wr => ∃ j : Nat, jv = .int .i64 (j : Int) ∧ j ≤ 1 ∧ Hid (GqE W0 wr q P ⟨#[42]⟩ (rtT 1 cs j))) (fun jv _ _ => 1 - (intOf jv).toNat)
      case atStart => exact ⟨0, rfl, by omega, (none, 0, 0), HG0.out⟩
      case round =>
        obtain ⟨j, rfl, hj, ⟨⟨yb, yl, yc⟩, hG'⟩⟩ := hrel
        have hG : Hid (Gq W0 wr q aTest P 200 ⟨#[42]⟩ (yb, yl, yc) (rtT 1 cs j)) := hG'
        clear hG'
        clear HG0
        have hx0 := (hG.out.bel.block _ (heap_lt HF0.out)).trans HF0.out
        have hp1 := (hG.out.bel.block _ (heap_lt HF1.out)).trans HF1.out
        obtain ⟨d0, d1, d2, d3, d4⟩ := hG.out.cells
        simp only [sv] at d4
        have g4 := cell_blk hx0 4
        simp at g4
        have hn1 : ¬ n0 = wr.heap.size := by have := heap_lt hx0; omega
        have hn2 : ¬ q = wr.heap.size := by have := heap_lt hG.out.blk; omega
        by_cases hlt : j < 1
        · have hl1 : (j : Int) < 1 := by omega
          by_cases hjl : j < cs.length
          · have hl2 : (j : Int) < (cs.length : Int) := by omega
            obtain ⟨Bk, off, cap, ek, hc⟩ := HI.out.ch j hjl
            injection ek with e1 e2 e3
            subst e1
            clear e2 e3
            obtain ⟨u1, u2⟩ := hc wr (HB0.out.trans (hG.out.bel.mono HB0.out.size))
            obtain ⟨Bd, hBe'⟩ : ∃ Bd, cs[j].b = Bd := ⟨_, rfl⟩
            rw [hBe'] at u2
            have hBlt := World.block_lt_of_cell? _ _ u2
            have g4a : (wr.alloc (.cells #[.string ⟨#[]⟩, .string ⟨#[]⟩] 29)).cell? ⟨n0, 4, none⟩ = some (.slice (some ⟨Bk, off, none⟩) cs.length xc) := ((bel1 _ _).cell (p := ⟨n0, 4, none⟩) (heap_lt hx0)).trans g4
            have u2a : (wr.alloc (.cells #[.string ⟨#[]⟩, .string ⟨#[]⟩] 29)).cell? ⟨Bk, off + j * 2 + 1, none⟩ = some (.string Bd) := ((bel1 _ _).cell (p := ⟨Bk, off + j * 2 + 1, none⟩) hBlt).trans u2
            by_cases hbig : 65536 < Bd.size
            · have hb1 : (65536 : Int) < (Bd.size : Int) := by omega
              have hBe : cs[j] = ⟨cs[j].v, Bd⟩ := by rw [← hBe']
              have HCC : Hid (rtC 1 cs j = ⟨⟨#[]⟩, (Bd.extract 0 65536)⟩) := by
                show _ = _
                unfold rtC
                rw [List.getElem?_eq_getElem hjl, hBe]
                simp only
                rw [cutB, if_pos hbig]
                first | rfl | simp
              have hIn : In ECh ((wr.alloc (.cells #[.string ⟨#[]⟩, .string (Bd.extract 0 65536)] 29)).alloc (.cells #[.string ⟨#[]⟩, .string (Bd.extract 0 65536)] 29)) (.slice (some ⟨wr.heap.size + 1, 0, none⟩) 1 1) [rtC 1 cs j] := in_one (E := ECh) _ _ (rtC 1 cs j) #[.string ⟨#[]⟩, .string (Bd.extract 0 65536)] 29 (0, 0) (fresh2 _ _ _) (by rw [HCC.out]; rfl)
              obtain ⟨bx, mx, cx, w9, hrun, hq9, hA9⟩ := (hG.out.below (bel2 _ _ _)).app (rtC 1 cs j) _ hIn (by rw [rtT_len]; have := HNN.out; omega)
              rw [← rtT_succ] at hA9
              have HA9 : Hid (Gq W0 (w9.setCell ⟨q, 4, none⟩ (.slice bx mx cx)) q aTest P 200 ⟨#[42]⟩ (bx, mx, cx) (rtT 1 cs (j + 1))) := hA9
              have HRUN : Hid ((Builtin.append_ #[24, 24] 24 #[.slice yb yl yc, .slice (some ⟨wr.heap.size + 1, 0, none⟩) 1 1]).run Tryd.prog ((wr.alloc (.cells #[.string ⟨#[]⟩, .string (Bd.extract 0 65536)] 29)).alloc (.cells #[.string ⟨#[]⟩, .string (Bd.extract 0 65536)] 29)) = .ok (.slice bx mx cx) w9) := hrun
              have f4 := cell_blk hq9 4
              have z4 := frozen_blk hq9 4
              simp at f4
              have d4a : (wr.alloc (.cells #[.string ⟨#[]⟩, .string (Bd.extract 0 65536)] 29)).cell? ⟨q, 4, none⟩ = some (.slice yb yl yc) := ((bel1 _ _).cell (p := ⟨q, 4, none⟩) (heap_lt hG.out.blk)).trans d4
              clear hrun hA9 hIn hq9
              go_wp2_with (at_builtin; refine Lib.wpList_append_run _ rfl _ _ _ _ rfl _ _ rfl rfl _ _ HRUN.out ?_)
              go_roundw
              case rel => exact ⟨j + 1, by simp, by omega, (bx, mx, cx), HA9.out⟩
              case measure => simp [intOf]; omega
            · have hb1 : ¬ (65536 : Int) < (Bd.size : Int) := by omega
              have hBe : cs[j] = ⟨cs[j].v, Bd⟩ := by rw [← hBe']
              have HCC : Hid (rtC 1 cs j = ⟨⟨#[]⟩, Bd⟩) := by
                show _ = _
                unfold rtC
                rw [List.getElem?_eq_getElem hjl, hBe]
                simp only
                rw [cutB, if_neg hbig]
                first | rfl | simp
              have hIn : In ECh ((wr.alloc (.cells #[.string ⟨#[]⟩, .string Bd] 29)).alloc (.cells #[.string ⟨#[]⟩, .string Bd] 29)) (.slice (some ⟨wr.heap.size + 1, 0, none⟩) 1 1) [rtC 1 cs j] := in_one (E := ECh) _ _ (rtC 1 cs j) #[.string ⟨#[]⟩, .string Bd] 29 (0, 0) (fresh2 _ _ _) (by rw [HCC.out]; rfl)
              obtain ⟨bx, mx, cx, w9, hrun, hq9, hA9⟩ := (hG.out.below (bel2 _ _ _)).app (rtC 1 cs j) _ hIn (by rw [rtT_len]; have := HNN.out; omega)
              rw [← rtT_succ] at hA9
              have HA9 : Hid (Gq W0 (w9.setCell ⟨q, 4, none⟩ (.slice bx mx cx)) q aTest P 200 ⟨#[42]⟩ (bx, mx, cx) (rtT 1 cs (j + 1))) := hA9
              have HRUN : Hid ((Builtin.append_ #[24, 24] 24 #[.slice yb yl yc, .slice (some ⟨wr.heap.size + 1, 0, none⟩) 1 1]).run Tryd.prog ((wr.alloc (.cells #[.string ⟨#[]⟩, .string Bd] 29)).alloc (.cells #[.string ⟨#[]⟩, .string Bd] 29)) = .ok (.slice bx mx cx) w9) := hrun
              have f4 := cell_blk hq9 4
              have z4 := frozen_blk hq9 4
              simp at f4
              have d4a : (wr.alloc (.cells #[.string ⟨#[]⟩, .string Bd] 29)).cell? ⟨q, 4, none⟩ = some (.slice yb yl yc) := ((bel1 _ _).cell (p := ⟨q, 4, none⟩) (heap_lt hG.out.blk)).trans d4
              clear hrun hA9 hIn hq9
              go_wp2_with (at_builtin; refine Lib.wpList_append_run _ rfl _ _ _ _ rfl _ _ rfl rfl _ _ HRUN.out ?_)
              go_roundw
              case rel => exact ⟨j + 1, by simp, by omega, (bx, mx, cx), HA9.out⟩
              case measure => simp [intOf]; omega
          · have hl2 : ¬ (j : Int) < (cs.length : Int) := by omega
            have g4a : (wr.alloc (.cells #[.string ⟨#[]⟩, .string ⟨#[]⟩] 29)).cell? ⟨n0, 4, none⟩ = some (.slice xb cs.length xc) := ((bel1 _ _).cell (p := ⟨n0, 4, none⟩) (heap_lt hx0)).trans g4
            have HCC : Hid (rtC 1 cs j = ⟨⟨#[]⟩, ⟨#[]⟩⟩) := by
              show _ = _
              unfold rtC
              rw [List.getElem?_eq_none (by omega)]
              first | rfl | simp [e0S]
            have hIn : In ECh ((wr.alloc (.cells #[.string ⟨#[]⟩, .string ⟨#[]⟩] 29)).alloc (.cells #[.string ⟨#[]⟩, .string ⟨#[]⟩] 29)) (.slice (some ⟨wr.heap.size + 1, 0, none⟩) 1 1) [rtC 1 cs j] := in_one (E := ECh) _ _ (rtC 1 cs j) #[.string ⟨#[]⟩, .string ⟨#[]⟩] 29 (0, 0) (fresh2 _ _ _) (by rw [HCC.out]; rfl)
            obtain ⟨bx, mx, cx, w9, hrun, hq9, hA9⟩ := (hG.out.below (bel2 _ _ _)).app (rtC 1 cs j) _ hIn (by rw [rtT_len]; have := HNN.out; omega)
            rw [← rtT_succ] at hA9
            have HA9 : Hid (Gq W0 (w9.setCell ⟨q, 4, none⟩ (.slice bx mx cx)) q aTest P 200 ⟨#[42]⟩ (bx, mx, cx) (rtT 1 cs (j + 1))) := hA9
            have HRUN : Hid ((Builtin.append_ #[24, 24] 24 #[.slice yb yl yc, .slice (some ⟨wr.heap.size + 1, 0, none⟩) 1 1]).run Tryd.prog ((wr.alloc (.cells #[.string ⟨#[]⟩, .string ⟨#[]⟩] 29)).alloc (.cells #[.string ⟨#[]⟩, .string ⟨#[]⟩] 29)) = .ok (.slice bx mx cx) w9) := hrun
            have f4 := cell_blk hq9 4
            have z4 := frozen_blk hq9 4
            simp at f4
            have d4a : (wr.alloc (.cells #[.string ⟨#[]⟩, .string ⟨#[]⟩] 29)).cell? ⟨q, 4, none⟩ = some (.slice yb yl yc) := ((bel1 _ _).cell (p := ⟨q, 4, none⟩) (heap_lt hG.out.blk)).trans d4
            clear hrun hA9 hIn hq9
            go_wp2_with (at_builtin; refine Lib.wpList_append_run _ rfl _ _ _ _ rfl _ _ rfl rfl _ _ HRUN.out ?_)
            go_roundw
            case rel => exact ⟨j + 1, by simp, by omega, (bx, mx, cx), HA9.out⟩
            case measure => simp [intOf]; omega
        · have hjN : j = 1 := by omega
          have hl1 : ¬ (j : Int) < 1 := by omega
          have r0 := cell_blk hp1 0
          have r1 := cell_blk hp1 1
          have r2 := cell_blk hp1 2
          have r3 := cell_blk hp1 3
          have r4 := cell_blk hp1 4
          have z0 := frozen_blk hp1 0
          have z1 := frozen_blk hp1 1
          have z2 := frozen_blk hp1 2
          have z3 := frozen_blk hp1 3
          have z4 := frozen_blk hp1 4
          simp at r0 r1 r2 r3 r4
          have HP1 : Hid (wr.heap[n1]? = some (.cells #[.string ⟨#[]⟩, .string ⟨#[]⟩, .int .i64 0, .string ⟨#[]⟩, .slice none 0 0] 26 (0, 0))) := hp1
          have HROW : Hid (rtL xn cs = rtT 1 cs j) := by show _ = _; rw [HL.out, HM.out, hjN]
          clear hx0 hp1 g4 hjN hj hlt
          go_wp2_with fail
          have hX : (((((wr.setCell ⟨n1, 0, none⟩ (.string aTest)).setCell ⟨n1, 1, none⟩ (.string P)).setCell ⟨n1, 2, none⟩ (.int .i64 200)).setCell ⟨n1, 3, none⟩ (.string ⟨#[42]⟩)).setCell ⟨n1, 4, none⟩ (.slice yb yl yc)).heap[n1]? = some (.cells #[.string aTest, .string P, .int .i64 200, .string ⟨#[42]⟩, .slice yb yl yc] 26 (0, 0)) := by
            rw [setCell_block _ _ _ _ _ _ _ (setCell_block _ _ _ _ _ _ _ (setCell_block _ _ _ _ _ _ _ (setCell_block _ _ _ _ _ _ _ (setCell_block _ _ _ _ _ _ _ HP1.out))))]
            rfl
          refine bodyPost_ret (results_cell_row (p := 2) (ty := 26) rfl _ _ n1 26 _ (0, 0) _ rfl hX Tryd.underlying26 rfl (by kernel_rfl)) rfl ?_
          refine ⟨(yb, yl, yc), by rw [HPE.out, HKE.out]; rfl, ?_, ?_, fun k hk => Nat.le_trans HB0.out.size (hG.out.new k hk)⟩
          · exact (((((HB0.out.trans (hG.out.bel.mono HB0.out.size)).setCell (p := ⟨n1, 0, none⟩) HN1.out.1 _).setCell (p := ⟨n1, 1, none⟩) HN1.out.1 _).setCell (p := ⟨n1, 2, none⟩) HN1.out.1 _).setCell (p := ⟨n1, 3, none⟩) HN1.out.1 _).setCell (p := ⟨n1, 4, none⟩) HN1.out.1 _
          · rw [HROW.out]
            exact hG.out.row.stays fun k hk _ => by
              have hne : k ≠ n1 := fun e => by have := hG.out.new k hk; have := HN1.out.2; omega
              rw [setCell_other _ _ _ _ _ hne, setCell_other _ _ _ _ _ hne, setCell_other _ _ _ _ _ hne, setCell_other _ _ _ _ _ hne, setCell_other _ _ _ _ _ hne]
    · rw [show ((2 : Nat) : Int) = 2 from rfl]
      obtain ⟨M, hM⟩ : ∃ M, M = min 8 (max 1 cs.length) := ⟨_, rfl⟩
      obtain ⟨MX, hMX⟩ : ∃ MX : Nat, MX = max 1 cs.length := ⟨_, rfl⟩
      have HM : Hid (rtN 2 cs.length = M) := by show _ = _; rw [hM]; rfl
      have HNN : Hid (M ≤ 8) := by show _ ≤ _; omega
      have hm1 : max (1 : Int) (cs.length : Int) = (MX : Int) := by omega
      have hm2 : min (8 : Int) (MX : Int) = (M : Int) := by omega
      have hm3 : min (8 : Int) (max (1 : Int) (cs.length : Int)) = (M : Int) := by omega
      clear hM hMX
      have HG0 : Hid (Gq W0 (W1.setCell ⟨q, 3, none⟩ (.string ⟨#[97, 99, 99, 101, 112, 116]⟩)) q aTest P 200 ⟨#[97, 99, 99, 101, 112, 116]⟩ (none, 0, 0) (rtT 2 cs 0)) := by
        refine ⟨HB1.out.setCell (p := ⟨q, 3, none⟩) HQ0.out _, ?_, R.nil _ _, fun k hk => by simp [sv, Value.ownBlock] at hk, HQ0.out⟩
        rw [setCell_block _ _ _ _ _ _ _ HQ.out]
        rfl
      have hqn : n0 ≠ q := by have := heap_lt HF0.out; have := HQ0.out; omega
      have hnq : q ≠ n0 := Ne.symm hqn
      go_wp2_with fail
      generalize (W1.setCell ⟨q, 3, none⟩ (.string ⟨#[97, 99, 99, 101, 112, 116]⟩)) = W2 at HG0 ⊢
      clear hm1 hm2 hm3 hqn hnq
      clear g4 q3 z3
      go_loopw [6, 7] (fun jv _ wr => ∃ j : Nat, jv = .int .i64 (j : Int) ∧ j ≤ M ∧ Hid (GqE W0 wr q P ⟨#[97, 99, 99, 101, 112, 116]⟩ (rtT 2 cs j))) (fun jv _ _ => M - (intOf jv).toNat)
      case atStart => exact ⟨0, rfl, by omega, (none, 0, 0), HG0.out⟩
      case round =>
        obtain ⟨j, rfl, hj, ⟨⟨yb, yl, yc⟩, hG'⟩⟩ := hrel
        have hG : Hid (Gq W0 wr q aTest P 200 ⟨#[97, 99, 99, 101, 112, 116]⟩ (yb, yl, yc) (rtT 2 cs j)) := hG'
        clear hG'
        clear HG0
        have hx0 := (hG.out.bel.block _ (heap_lt HF0.out)).trans HF0.out
        have hp1 := (hG.out.bel.block _ (heap_lt HF1.out)).trans HF1.out
        obtain ⟨d0, d1, d2, d3, d4⟩ := hG.out.cells
        simp only [sv] at d4
        have g4 := cell_blk hx0 4
        simp at g4
        have hn1 : ¬ n0 = wr.heap.size := by have := heap_lt hx0; omega
        have hn2 : ¬ q = wr.heap.size := by have := heap_lt hG.out.blk; omega
        by_cases hlt : j < M
        · have hl1 : (j : Int) < (M : Int) := by omega
          obtain ⟨I, hIe⟩ : ∃ I, itoaS (j : Int) = I := ⟨_, rfl⟩
          have hj8 : j < 8 := by have := HNN.out; omega
          have HVS : Hid ((⟨#[118]⟩ : ByteArray) ++ I = vS j) := vS_of j I hIe
          have hsd : ¬ (9223372036854775807 < 1 + I.size) := by
            have h1 := (vS_val hj8).2
            rw [← HVS.out] at h1
            simp at h1
            omega
          by_cases hjl : j < cs.length
          · have hl2 : (j : Int) < (cs.length : Int) := by omega
            obtain ⟨Bk, off, cap, ek, hc⟩ := HI.out.ch j hjl
            injection ek with e1 e2 e3
            subst e1
            clear e2 e3
            obtain ⟨u1, u2⟩ := hc wr (HB0.out.trans (hG.out.bel.mono HB0.out.size))
            obtain ⟨Bd, hBe'⟩ : ∃ Bd, cs[j].b = Bd := ⟨_, rfl⟩
            rw [hBe'] at u2
            have hBlt := World.block_lt_of_cell? _ _ u2
            have g4a : (wr.alloc (.cells #[.string ⟨#[]⟩, .string ⟨#[]⟩] 29)).cell? ⟨n0, 4, none⟩ = some (.slice (some ⟨Bk, off, none⟩) cs.length xc) := ((bel1 _ _).cell (p := ⟨n0, 4, none⟩) (heap_lt hx0)).trans g4
            have u2a : (wr.alloc (.cells #[.string ⟨#[]⟩, .string ⟨#[]⟩] 29)).cell? ⟨Bk, off + j * 2 + 1, none⟩ = some (.string Bd) := ((bel1 _ _).cell (p := ⟨Bk, off + j * 2 + 1, none⟩) hBlt).trans u2
            by_cases hbig : 65536 < Bd.size
            · have hb1 : (65536 : Int) < (Bd.size : Int) := by omega
              have hBe : cs[j] = ⟨cs[j].v, Bd⟩ := by rw [← hBe']
              have HCC : Hid (rtC 2 cs j = ⟨vS j, (Bd.extract 0 65536)⟩) := by
                show _ = _
                unfold rtC
                rw [List.getElem?_eq_getElem hjl, hBe]
                simp only
                rw [cutB, if_pos hbig]
                first | rfl | simp
              have hC0 : (wr.alloc (.cells #[.string ⟨#[]⟩, .string (Bd.extract 0 65536)] 29)).heap[wr.heap.size]? = some (.cells #[.string ⟨#[]⟩, .string (Bd.extract 0 65536)] 29 (0, 0)) := by rw [heap_al, if_pos rfl]
              have hG1 := hG.out.below (bel1 wr (.cells #[.string ⟨#[]⟩, .string (Bd.extract 0 65536)] 29))
              have HIT : Hid (Calls Tryd.prog 9 #[.int .i64 (j : Int)] (wr.alloc (.cells #[.string ⟨#[]⟩, .string (Bd.extract 0 65536)] 29)) fun e w' => e = .returned (.string I) ∧ Below (wr.alloc (.cells #[.string ⟨#[]⟩, .string (Bd.extract 0 65536)] 29)).heap.size (wr.alloc (.cells #[.string ⟨#[]⟩, .string (Bd.extract 0 65536)] 29)) w') := by rw [← hIe]; exact itoa_any (j : Int) (by omega) (by omega) _ (HT.out.below (HB0.out.trans (hG1.bel.mono HB0.out.size)))
              have HC0 : Hid ((wr.alloc (.cells #[.string ⟨#[]⟩, .string (Bd.extract 0 65536)] 29)).heap[wr.heap.size]? = some (.cells #[.string ⟨#[]⟩, .string (Bd.extract 0 65536)] 29 (0, 0))) := hC0
              have HG1 : Hid (Gq W0 (wr.alloc (.cells #[.string ⟨#[]⟩, .string (Bd.extract 0 65536)] 29)) q aTest P 200 ⟨#[97, 99, 99, 101, 112, 116]⟩ (yb, yl, yc) (rtT 2 cs j)) := hG1
              have HCQ : Hid (wr.heap.size ≠ q ∧ (sv (yb, yl, yc)).ownBlock ≠ some wr.heap.size ∧ W0.heap.size ≤ wr.heap.size) := ⟨by have := heap_lt hG.out.blk; omega, fun e => by have := hG.out.row.lt _ e; omega, hG.out.bel.size⟩
              obtain ⟨c, hc⟩ : ∃ c, c = wr.heap.size := ⟨_, rfl⟩
              clear hC0 hG1
              go_upto_region 21 with fail
              obtain ⟨V1, hV1⟩ : ∃ V1, V1 = wr.alloc (.cells #[.string ⟨#[]⟩, .string (Bd.extract 0 65536)] 29) := ⟨_, rfl⟩
              rw [← hV1] at HC0 HIT HG1 ⊢
              rw [← hc] at HC0 HCQ ⊢
              clear hV1 hc
              go_wp2_with fail
              go_at_call 9
              refine HIT.out.mono ?_
              rintro e w5 ⟨rfl, hb5⟩
              have hC5 := (hb5.block _ (heap_lt HC0.out)).trans HC0.out
              have s0 := cell_blk hC5 0
              have s1 := cell_blk hC5 1
              have y0 := frozen_blk hC5 0
              simp at s0 s1
              have HG5 : Hid (Gq W0 (w5.setCell ⟨c, 0, none⟩ (.string (⟨#[118]⟩ ++ I))) q aTest P 200 ⟨#[97, 99, 99, 101, 112, 116]⟩ (yb, yl, yc) (rtT 2 cs j)) := (HG1.out.below hb5).set _ HCQ.out.2.2 HCQ.out.1 HCQ.out.2.1
              obtain ⟨d0, d1, d2, d3, d4⟩ := (HG1.out.below hb5).cells
              simp only [sv] at d4
              have hcq := HCQ.out.1
              have hqc := Ne.symm HCQ.out.1
              have hIn : In ECh ((w5.setCell ⟨c, 0, none⟩ (.string (⟨#[118]⟩ ++ I))).alloc (.cells #[.string (⟨#[118]⟩ ++ I), .string (Bd.extract 0 65536)] 29)) (.slice (some ⟨w5.heap.size, 0, none⟩) 1 1) [rtC 2 cs j] := in_one (E := ECh) _ _ (rtC 2 cs j) #[.string (⟨#[118]⟩ ++ I), .string (Bd.extract 0 65536)] 29 (0, 0) (by rw [heap_al, if_pos (by simp [World.setCell])]) (by rw [HCC.out, HVS.out]; rfl)
              obtain ⟨bx, mx, cx, w9, hrun, hq9, hA9⟩ := (HG5.out.below (bel1 _ _)).app (rtC 2 cs j) _ hIn (by rw [rtT_len]; have := HNN.out; omega)
              rw [← rtT_succ] at hA9
              have HA9 : Hid (Gq W0 (w9.setCell ⟨q, 4, none⟩ (.slice bx mx cx)) q aTest P 200 ⟨#[97, 99, 99, 101, 112, 116]⟩ (bx, mx, cx) (rtT 2 cs (j + 1))) := hA9
              have HRUN : Hid ((Builtin.append_ #[24, 24] 24 #[.slice yb yl yc, .slice (some ⟨w5.heap.size, 0, none⟩) 1 1]).run Tryd.prog ((w5.setCell ⟨c, 0, none⟩ (.string (⟨#[118]⟩ ++ I))).alloc (.cells #[.string (⟨#[118]⟩ ++ I), .string (Bd.extract 0 65536)] 29)) = .ok (.slice bx mx cx) w9) := hrun
              have f4 := cell_blk hq9 4
              have z4 := frozen_blk hq9 4
              simp at f4
              clear hrun hA9 hIn hq9 hb5 hC5 HIT HC0 HG1 d0 d1 d2 d3
              go_wp2_with (at_builtin; refine Lib.wpList_append_run _ rfl _ _ _ _ rfl _ _ rfl rfl _ _ HRUN.out ?_)
              go_roundw
              case rel => exact ⟨j + 1, by simp, by omega, (bx, mx, cx), HA9.out⟩
              case measure => simp [intOf]; omega
            · have hb1 : ¬ (65536 : Int) < (Bd.size : Int) := by omega
              have hBe : cs[j] = ⟨cs[j].v, Bd⟩ := by rw [← hBe']
              have HCC : Hid (rtC 2 cs j = ⟨vS j, Bd⟩) := by
                show _ = _
                unfold rtC
                rw [List.getElem?_eq_getElem hjl, hBe]
                simp only
                rw [cutB, if_neg hbig]
                first | rfl | simp
              have hC0 : (wr.alloc (.cells #[.string ⟨#[]⟩, .string Bd] 29)).heap[wr.heap.size]? = some (.cells #[.string ⟨#[]⟩, .string Bd] 29 (0, 0)) := by rw [heap_al, if_pos rfl]
              have hG1 := hG.out.below (bel1 wr (.cells #[.string ⟨#[]⟩, .string Bd] 29))
              have HIT : Hid (Calls Tryd.prog 9 #[.int .i64 (j : Int)] (wr.alloc (.cells #[.string ⟨#[]⟩, .string Bd] 29)) fun e w' => e = .returned (.string I) ∧ Below (wr.alloc (.cells #[.string ⟨#[]⟩, .string Bd] 29)).heap.size (wr.alloc (.cells #[.string ⟨#[]⟩, .string Bd] 29)) w') := by rw [← hIe]; exact itoa_any (j : Int) (by omega) (by omega) _ (HT.out.below (HB0.out.trans (hG1.bel.mono HB0.out.size)))
              have HC0 : Hid ((wr.alloc (.cells #[.string ⟨#[]⟩, .string Bd] 29)).heap[wr.heap.size]? = some (.cells #[.string ⟨#[]⟩, .string Bd] 29 (0, 0))) := hC0
              have HG1 : Hid (Gq W0 (wr.alloc (.cells #[.string ⟨#[]⟩, .string Bd] 29)) q aTest P 200 ⟨#[97, 99, 99, 101, 112, 116]⟩ (yb, yl, yc) (rtT 2 cs j)) := hG1
              have HCQ : Hid (wr.heap.size ≠ q ∧ (sv (yb, yl, yc)).ownBlock ≠ some wr.heap.size ∧ W0.heap.size ≤ wr.heap.size) := ⟨by have := heap_lt hG.out.blk; omega, fun e => by have := hG.out.row.lt _ e; omega, hG.out.bel.size⟩
              obtain ⟨c, hc⟩ : ∃ c, c = wr.heap.size := ⟨_, rfl⟩
              clear hC0 hG1
              go_upto_region 21 with fail
              obtain ⟨V1, hV1⟩ : ∃ V1, V1 = wr.alloc (.cells #[.string ⟨#[]⟩, .string Bd] 29) := ⟨_, rfl⟩
              rw [← hV1] at HC0 HIT HG1 ⊢
              rw [← hc] at HC0 HCQ ⊢
              clear hV1 hc
              go_wp2_with fail
              go_at_call 9
              refine HIT.out.mono ?_
              rintro e w5 ⟨rfl, hb5⟩
              have hC5 := (hb5.block _ (heap_lt HC0.out)).trans HC0.out
              have s0 := cell_blk hC5 0
              have s1 := cell_blk hC5 1
              have y0 := frozen_blk hC5 0
              simp at s0 s1
              have HG5 : Hid (Gq W0 (w5.setCell ⟨c, 0, none⟩ (.string (⟨#[118]⟩ ++ I))) q aTest P 200 ⟨#[97, 99, 99, 101, 112, 116]⟩ (yb, yl, yc) (rtT 2 cs j)) := (HG1.out.below hb5).set _ HCQ.out.2.2 HCQ.out.1 HCQ.out.2.1
              obtain ⟨d0, d1, d2, d3, d4⟩ := (HG1.out.below hb5).cells
              simp only [sv] at d4
              have hcq := HCQ.out.1
              have hqc := Ne.symm HCQ.out.1
              have hIn : In ECh ((w5.setCell ⟨c, 0, none⟩ (.string (⟨#[118]⟩ ++ I))).alloc (.cells #[.string (⟨#[118]⟩ ++ I), .string Bd] 29)) (.slice (some ⟨w5.heap.size, 0, none⟩) 1 1) [rtC 2 cs j] := in_one (E := ECh) _ _ (rtC 2 cs j) #[.string (⟨#[118]⟩ ++ I), .string Bd] 29 (0, 0) (by rw [heap_al, if_pos (by simp [World.setCell])]) (by rw [HCC.out, HVS.out]; rfl)
              obtain ⟨bx, mx, cx, w9, hrun, hq9, hA9⟩ := (HG5.out.below (bel1 _ _)).app (rtC 2 cs j) _ hIn (by rw [rtT_len]; have := HNN.out; omega)
              rw [← rtT_succ] at hA9
              have HA9 : Hid (Gq W0 (w9.setCell ⟨q, 4, none⟩ (.slice bx mx cx)) q aTest P 200 ⟨#[97, 99, 99, 101, 112, 116]⟩ (bx, mx, cx) (rtT 2 cs (j + 1))) := hA9
              have HRUN : Hid ((Builtin.append_ #[24, 24] 24 #[.slice yb yl yc, .slice (some ⟨w5.heap.size, 0, none⟩) 1 1]).run Tryd.prog ((w5.setCell ⟨c, 0, none⟩ (.string (⟨#[118]⟩ ++ I))).alloc (.cells #[.string (⟨#[118]⟩ ++ I), .string Bd] 29)) = .ok (.slice bx mx cx) w9) := hrun
              have f4 := cell_blk hq9 4
              have z4 := frozen_blk hq9 4
              simp at f4
              clear hrun hA9 hIn hq9 hb5 hC5 HIT HC0 HG1 d0 d1 d2 d3
              go_wp2_with (at_builtin; refine Lib.wpList_append_run _ rfl _ _ _ _ rfl _ _ rfl rfl _ _ HRUN.out ?_)
              go_roundw
              case rel => exact ⟨j + 1, by simp, by omega, (bx, mx, cx), HA9.out⟩
              case measure => simp [intOf]; omega
          · have hl2 : ¬ (j : Int) < (cs.length : Int) := by omega
            have g4a : (wr.alloc (.cells #[.string ⟨#[]⟩, .string ⟨#[]⟩] 29)).cell? ⟨n0, 4, none⟩ = some (.slice xb cs.length xc) := ((bel1 _ _).cell (p := ⟨n0, 4, none⟩) (heap_lt hx0)).trans g4
            have HCC : Hid (rtC 2 cs j = ⟨vS j, ⟨#[]⟩⟩) := by
              show _ = _
              unfold rtC
              rw [List.getElem?_eq_none (by omega)]
              first | rfl | simp [e0S]
            have hC0 : (wr.alloc (.cells #[.string ⟨#[]⟩, .string ⟨#[]⟩] 29)).heap[wr.heap.size]? = some (.cells #[.string ⟨#[]⟩, .string ⟨#[]⟩] 29 (0, 0)) := by rw [heap_al, if_pos rfl]
            have hG1 := hG.out.below (bel1 wr (.cells #[.string ⟨#[]⟩, .string ⟨#[]⟩] 29))
            have HIT : Hid (Calls Tryd.prog 9 #[.int .i64 (j : Int)] (wr.alloc (.cells #[.string ⟨#[]⟩, .string ⟨#[]⟩] 29)) fun e w' => e = .returned (.string I) ∧ Below (wr.alloc (.cells #[.string ⟨#[]⟩, .string ⟨#[]⟩] 29)).heap.size (wr.alloc (.cells #[.string ⟨#[]⟩, .string ⟨#[]⟩] 29)) w') := by rw [← hIe]; exact itoa_any (j : Int) (by omega) (by omega) _ (HT.out.below (HB0.out.trans (hG1.bel.mono HB0.out.size)))
            have HC0 : Hid ((wr.alloc (.cells #[.string ⟨#[]⟩, .string ⟨#[]⟩] 29)).heap[wr.heap.size]? = some (.cells #[.string ⟨#[]⟩, .string ⟨#[]⟩] 29 (0, 0))) := hC0
            have HG1 : Hid (Gq W0 (wr.alloc (.cells #[.string ⟨#[]⟩, .string ⟨#[]⟩] 29)) q aTest P 200 ⟨#[97, 99, 99, 101, 112, 116]⟩ (yb, yl, yc) (rtT 2 cs j)) := hG1
            have HCQ : Hid (wr.heap.size ≠ q ∧ (sv (yb, yl, yc)).ownBlock ≠ some wr.heap.size ∧ W0.heap.size ≤ wr.heap.size) := ⟨by have := heap_lt hG.out.blk; omega, fun e => by have := hG.out.row.lt _ e; omega, hG.out.bel.size⟩
            obtain ⟨c, hc⟩ : ∃ c, c = wr.heap.size := ⟨_, rfl⟩
            clear hC0 hG1
            go_upto_region 21 with fail
            obtain ⟨V1, hV1⟩ : ∃ V1, V1 = wr.alloc (.cells #[.string ⟨#[]⟩, .string ⟨#[]⟩] 29) := ⟨_, rfl⟩
            rw [← hV1] at HC0 HIT HG1 ⊢
            rw [← hc] at HC0 HCQ ⊢
            clear hV1 hc
            go_wp2_with fail
            go_at_call 9
            refine HIT.out.mono ?_
            rintro e w5 ⟨rfl, hb5⟩
            have hC5 := (hb5.block _ (heap_lt HC0.out)).trans HC0.out
            have s0 := cell_blk hC5 0
            have s1 := cell_blk hC5 1
            have y0 := frozen_blk hC5 0
            simp at s0 s1
            have HG5 : Hid (Gq W0 (w5.setCell ⟨c, 0, none⟩ (.string (⟨#[118]⟩ ++ I))) q aTest P 200 ⟨#[97, 99, 99, 101, 112, 116]⟩ (yb, yl, yc) (rtT 2 cs j)) := (HG1.out.below hb5).set _ HCQ.out.2.2 HCQ.out.1 HCQ.out.2.1
            obtain ⟨d0, d1, d2, d3, d4⟩ := (HG1.out.below hb5).cells
            simp only [sv] at d4
            have hcq := HCQ.out.1
            have hqc := Ne.symm HCQ.out.1
            have hIn : In ECh ((w5.setCell ⟨c, 0, none⟩ (.string (⟨#[118]⟩ ++ I))).alloc (.cells #[.string (⟨#[118]⟩ ++ I), .string ⟨#[]⟩] 29)) (.slice (some ⟨w5.heap.size, 0, none⟩) 1 1) [rtC 2 cs j] := in_one (E := ECh) _ _ (rtC 2 cs j) #[.string (⟨#[118]⟩ ++ I), .string ⟨#[]⟩] 29 (0, 0) (by rw [heap_al, if_pos (by simp [World.setCell])]) (by rw [HCC.out, HVS.out]; rfl)
            obtain ⟨bx, mx, cx, w9, hrun, hq9, hA9⟩ := (HG5.out.below (bel1 _ _)).app (rtC 2 cs j) _ hIn (by rw [rtT_len]; have := HNN.out; omega)
            rw [← rtT_succ] at hA9
            have HA9 : Hid (Gq W0 (w9.setCell ⟨q, 4, none⟩ (.slice bx mx cx)) q aTest P 200 ⟨#[97, 99, 99, 101, 112, 116]⟩ (bx, mx, cx) (rtT 2 cs (j + 1))) := hA9
            have HRUN : Hid ((Builtin.append_ #[24, 24] 24 #[.slice yb yl yc, .slice (some ⟨w5.heap.size, 0, none⟩) 1 1]).run Tryd.prog ((w5.setCell ⟨c, 0, none⟩ (.string (⟨#[118]⟩ ++ I))).alloc (.cells #[.string (⟨#[118]⟩ ++ I), .string ⟨#[]⟩] 29)) = .ok (.slice bx mx cx) w9) := hrun
            have f4 := cell_blk hq9 4
            have z4 := frozen_blk hq9 4
            simp at f4
            clear hrun hA9 hIn hq9 hb5 hC5 HIT HC0 HG1 d0 d1 d2 d3
            go_wp2_with (at_builtin; refine Lib.wpList_append_run _ rfl _ _ _ _ rfl _ _ rfl rfl _ _ HRUN.out ?_)
            go_roundw
            case rel => exact ⟨j + 1, by simp, by omega, (bx, mx, cx), HA9.out⟩
            case measure => simp [intOf]; omega
        · have hjN : j = M := by omega
          have hl1 : ¬ (j : Int) < (M : Int) := by omega
          have r0 := cell_blk hp1 0
          have r1 := cell_blk hp1 1
          have r2 := cell_blk hp1 2
          have r3 := cell_blk hp1 3
          have r4 := cell_blk hp1 4
          have z0 := frozen_blk hp1 0
          have z1 := frozen_blk hp1 1
          have z2 := frozen_blk hp1 2
          have z3 := frozen_blk hp1 3
          have z4 := frozen_blk hp1 4
          simp at r0 r1 r2 r3 r4
          have HP1 : Hid (wr.heap[n1]? = some (.cells #[.string ⟨#[]⟩, .string ⟨#[]⟩, .int .i64 0, .string ⟨#[]⟩, .slice none 0 0] 26 (0, 0))) := hp1
          have HROW : Hid (rtL xn cs = rtT 2 cs j) := by show _ = _; rw [HL.out, HM.out, hjN]
          clear hx0 hp1 g4 hjN hj hlt
          go_wp2_with fail
          have hX : (((((wr.setCell ⟨n1, 0, none⟩ (.string aTest)).setCell ⟨n1, 1, none⟩ (.string P)).setCell ⟨n1, 2, none⟩ (.int .i64 200)).setCell ⟨n1, 3, none⟩ (.string ⟨#[97, 99, 99, 101, 112, 116]⟩)).setCell ⟨n1, 4, none⟩ (.slice yb yl yc)).heap[n1]? = some (.cells #[.string aTest, .string P, .int .i64 200, .string ⟨#[97, 99, 99, 101, 112, 116]⟩, .slice yb yl yc] 26 (0, 0)) := by
            rw [setCell_block _ _ _ _ _ _ _ (setCell_block _ _ _ _ _ _ _ (setCell_block _ _ _ _ _ _ _ (setCell_block _ _ _ _ _ _ _ (setCell_block _ _ _ _ _ _ _ HP1.out))))]
            rfl
          refine bodyPost_ret (results_cell_row (p := 2) (ty := 26) rfl _ _ n1 26 _ (0, 0) _ rfl hX Tryd.underlying26 rfl (by kernel_rfl)) rfl ?_
          refine ⟨(yb, yl, yc), by rw [HPE.out, HKE.out]; rfl, ?_, ?_, fun k hk => Nat.le_trans HB0.out.size (hG.out.new k hk)⟩
          · exact (((((HB0.out.trans (hG.out.bel.mono HB0.out.size)).setCell (p := ⟨n1, 0, none⟩) HN1.out.1 _).setCell (p := ⟨n1, 1, none⟩) HN1.out.1 _).setCell (p := ⟨n1, 2, none⟩) HN1.out.1 _).setCell (p := ⟨n1, 3, none⟩) HN1.out.1 _).setCell (p := ⟨n1, 4, none⟩) HN1.out.1 _
          · rw [HROW.out]
            exact hG.out.row.stays fun k hk _ => by
              have hne : k ≠ n1 := fun e => by have := hG.out.new k hk; have := HN1.out.2; omega
              rw [setCell_other _ _ _ _ _ hne, setCell_other _ _ _ _ _ hne, setCell_other _ _ _ _ _ hne, setCell_other _ _ _ _ _ hne, setCell_other _ _ _ _ _ hne]
end Go.Proofs.YtacboeeimnikdaaDoor
