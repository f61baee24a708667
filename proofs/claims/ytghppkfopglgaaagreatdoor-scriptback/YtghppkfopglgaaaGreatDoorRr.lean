/- The reader: move. -/
import Derived.Test.YtghppkfopglgaaaGreatDoorKan
namespace Go.Proofs.YtghppkfopglgaaaGreatDoor
open Go.RowKit
set_option linter.unusedVariables false
set_option linter.unusedSimpArgs false
def mvA (m : Mv) (vf vc : Value) : Array Value := #[.int .i64 m.k, .int .i64 m.n, .string m.rq.m, .string m.rq.s, .string m.rq.a, .string m.rq.p, vf, .string m.rq.b, .string m.pg.a, .string m.pg.p, .int .i64 m.pg.st, .string m.pg.vr, vc, .int .i64 m.si.t, .int .i64 m.si.p, .int .i64 m.si.s, .int .i64 m.si.w, .int .i64 m.si.f, .int .i64 m.si.l, .string m.by']
def mvZ : Array Value := #[.int .i64 0, .int .i64 0, .string ⟨#[]⟩, .string ⟨#[]⟩, .string ⟨#[]⟩, .string ⟨#[]⟩, .slice none 0 0, .string ⟨#[]⟩, .string ⟨#[]⟩, .string ⟨#[]⟩, .int .i64 0, .string ⟨#[]⟩, .slice none 0 0, .int .i64 0, .int .i64 0, .int .i64 0, .int .i64 0, .int .i64 0, .int .i64 0, .string ⟨#[]⟩]
def mvK (K : Int) : Array Value := #[.int .i64 K, .int .i64 0, .string ⟨#[]⟩, .string ⟨#[]⟩, .string ⟨#[]⟩, .string ⟨#[]⟩, .slice none 0 0, .string ⟨#[]⟩, .string ⟨#[]⟩, .string ⟨#[]⟩, .int .i64 0, .string ⟨#[]⟩, .slice none 0 0, .int .i64 0, .int .i64 0, .int .i64 0, .int .i64 0, .int .i64 0, .int .i64 0, .string ⟨#[]⟩]
theorem mv_0 (r : Rd) (s : ByteArray) (h : moveOf s = 0) : r.mv s = ({ Mv.z with k := 0 }, Rd.no) := by unfold Rd.mv; rw [h]; rfl
theorem mv_1 (r : Rd) (s : ByteArray) (h : moveOf s = 1) : r.mv s = ({ Mv.z with k := 1, rq := r.rq.1 }, r.rq.2) := by unfold Rd.mv; rw [h]; rfl
theorem mv_8 (r : Rd) (s : ByteArray) (h : moveOf s = 8) : r.mv s = ({ Mv.z with k := 8, pg := r.pg.1 }, r.pg.2) := by unfold Rd.mv; rw [h]; rfl
theorem mv_9 (r : Rd) (s : ByteArray) (h : moveOf s = 9) : r.mv s = ({ Mv.z with k := 9, si := r.si.1 }, r.si.2) := by unfold Rd.mv; rw [h]; rfl
theorem mv_10 (r : Rd) (s : ByteArray) (h : moveOf s = 10) : r.mv s = ({ Mv.z with k := 10, n := r.nu.1, by' := (r.nu.2.nx 1).1 }, (r.nu.2.nx 1).2) := by unfold Rd.mv; rw [h]; rfl
theorem mv_n (r : Rd) (s : ByteArray) (k : Nat) (h : moveOf s = k) (h0 : k ≠ 0) (h1 : k ≠ 1) (h8 : k ≠ 8) (h9 : k ≠ 9) (h10 : k ≠ 10) : r.mv s = ({ Mv.z with k := k, n := r.nu.1 }, r.nu.2) := by
  unfold Rd.mv
  rw [h]
  split <;> first | omega | rfl
/-- what is being made, and its result's cell -/
structure BlJ (ty : TypeId) (Z : Array Value) (gr bw g0 g1 : Nat) (w : World) (r : Rd) (c : Array Value) (V : World) : Prop where
  rd : RdS gr bw r V
  kr : Kr gr w V
  b1 : V.heap[g1]? = some (.cells c ty (0, 0))
  b0 : V.heap[g0]? = some (.cells Z ty (0, 0))
theorem BlJ.call {ty : TypeId} {Z : Array Value} {gr bw g0 g1 : Nat} {w : World} {r : Rd} {c : Array Value} {V : World} (h : BlJ ty Z gr bw g0 g1 w r c V) (n0 : gr ≠ g0) (n1 : gr ≠ g1) {r' : Rd} {V' : World} (hS : RdS gr bw r' V') (hK : Kr gr V V') : BlJ ty Z gr bw g0 g1 w r' c V' :=
  ⟨hS, Kr.tr h.kr hK, (hK.block g1 (heap_lt h.b1) (fun e => n1 e.symm)).trans h.b1, (hK.block g0 (heap_lt h.b0) (fun e => n0 e.symm)).trans h.b0⟩
theorem BlJ.setRow {ty : TypeId} {Z : Array Value} {gr bw g0 g1 : Nat} {w : World} {r : Rd} {c : Array Value} {V : World} (h : BlJ ty Z gr bw g0 g1 w r c V) (n01 : g0 ≠ g1) (n1 : gr ≠ g1) (nb : bw ≠ g1) (g8 : 8 ≤ g1) (hw : w.heap.size ≤ g1) (c' : Array Value) : BlJ ty Z gr bw g0 g1 w r c' (V.setRow g1 c') := by
  have hk := Ks.setRow (fun k => k = g1) V g1 c' rfl
  exact ⟨h.rd.off n1 nb g8 hk, h.kr.grow hk hw, setRow_blk h.b1, (setRow_off n01).trans h.b0⟩
theorem BlJ.setCell {ty : TypeId} {Z : Array Value} {gr bw g0 g1 : Nat} {w : World} {r : Rd} {c : Array Value} {V : World} (h : BlJ ty Z gr bw g0 g1 w r c V) (n01 : g0 ≠ g1) (n1 : gr ≠ g1) (nb : bw ≠ g1) (g8 : 8 ≤ g1) (hw : w.heap.size ≤ g1) (i : Nat) (v : Value) : BlJ ty Z gr bw g0 g1 w r (c.setIfInBounds i v) (V.setCell ⟨g1, i, none⟩ v) := by
  have hk := Ks.setCell (fun k => k = g1) V g1 i v rfl
  exact ⟨h.rd.off n1 nb g8 hk, h.kr.grow hk hw, setCell_block _ _ _ _ _ _ _ h.b1, (setCell_other _ _ _ _ _ n01).trans h.b0⟩
/-- as it is told -/
theorem BlJ.fin {ty : TypeId} {Z : Array Value} {gr bw g0 g1 : Nat} {w : World} {r : Rd} {c : Array Value} {V : World} (h : BlJ ty Z gr bw g0 g1 w r c V) (n0 : gr ≠ g0) (nb : bw ≠ g0) (g8 : 8 ≤ g0) (hw : w.heap.size ≤ g0) (c' : Array Value) : RdS gr bw r (V.setRow g0 c') ∧ Kr gr w (V.setRow g0 c') ∧ (V.setRow g0 c').heap[g0]? = some (.cells c' ty (0, 0)) := by
  have hk := Ks.setRow (fun k => k = g0) V g0 c' rfl
  exact ⟨h.rd.off n0 nb g8 hk, h.kr.grow hk hw, setRow_blk h.b0⟩
theorem wpList_store_blj {ty : TypeId} {Z : Array Value} {gr bw g0 g1 : Nat} {w : World} {r : Rd} {c : Array Value} {V : World} (hJ : BlJ ty Z gr bw g0 g1 w r c V) (n01 : g0 ≠ g1) (n1 : gr ≠ g1) (nb : bw ≠ g1) (g8 : 8 ≤ g1) (hw : w.heap.size ≤ g1)
    {ops : Array Oper} {rest : List Oper} {o : Oper} {a : Act} {Q : Exit → Act → World → Prop} (hgd : o.guard = none) (sty : TypeId) (x y : Operand) (ho : o.op = .store sty x y)
    (off : Nat) (vs : Array Value) (hx : a.eval x = .pointer (some ⟨g1, off, none⟩)) (hy : a.eval y = .agg vs) (hi : (Tryz.prog.info? sty).map (·.size) = some vs.size)
    (hle : off + vs.size ≤ c.size) (h1 : vs.toList.all (·.oneCell') = true) (c' : Array Value) (hc : part c off vs = c')
    (h : ∀ V', BlJ ty Z gr bw g0 g1 w r c' V' → Ks (fun k => k = g1) V V' → wpList Tryz.prog ops Q rest (a.put o.dst undef) V') : wpList Tryz.prog ops Q (o :: rest) a V :=
  wpList_store_part hgd sty x y ho g1 off vs hx hy ty c hJ.b1 hi hle (by rw [← h1, Array.all_toList]) (h _ (hc ▸ hJ.setRow n01 n1 nb g8 hw _) (Ks.setRow _ _ _ _ rfl))
theorem wpList_fin_blj {ty : TypeId} {Z : Array Value} {gr bw g0 g1 : Nat} {w : World} {r : Rd} {c : Array Value} {V : World} (hJ : BlJ ty Z gr bw g0 g1 w r c V) (n0 : gr ≠ g0) (nb : bw ≠ g0) (g8 : 8 ≤ g0) (hw : w.heap.size ≤ g0)
    {ops : Array Oper} {rest : List Oper} {o : Oper} {a : Act} {Q : Exit → Act → World → Prop} (hgd : o.guard = none) (x y : Operand) (ho : o.op = .store ty x y)
    (hx : a.eval x = .pointer (some ⟨g0, 0, none⟩)) (hy : a.eval y = .agg c) (hi : (Tryz.prog.info? ty).map (·.size) = some c.size)
    (hle : c.size ≤ Z.size) (h1 : c.toList.all (·.oneCell') = true) (c' : Array Value) (hc : part Z 0 c = c')
    (h : ∀ V', RdS gr bw r V' → Kr gr w V' → V'.heap[g0]? = some (.cells c' ty (0, 0)) → Ks (fun k => k = g0) V V' → wpList Tryz.prog ops Q rest (a.put o.dst undef) V') : wpList Tryz.prog ops Q (o :: rest) a V := by
  obtain ⟨f1, f2, f3⟩ := hJ.fin n0 nb g8 hw c'
  exact wpList_store_part hgd ty x y ho g0 0 c hx hy ty Z hJ.b0 hi (by omega) (by rw [← h1, Array.all_toList]) (by rw [hc]; exact h _ f1 f2 f3 (Ks.setRow _ _ _ _ rfl))
set_option maxRecDepth 100000 in
set_option maxHeartbeats 8000000 in
theorem move_any (gr bw : Nat) (r : Rd) (s : ByteArray) (w : World) (h : RdS gr bw r w) (hlen : r.l.length ≤ 1073741824) : Calls Tryz.prog 65 #[.pointer (some ⟨gr, 0, none⟩), .string s] w fun e w' => ∃ vf vc, e = .returned (.agg (mvA (r.mv s).1 vf vc)) ∧ R EFd w' vf (r.mv s).1.rq.fs ∧ R ECh w' vc (r.mv s).1.pg.ch ∧ (∀ k, vf.ownBlock = some k → w.heap.size ≤ k) ∧ (∀ k, vc.ownBlock = some k → w.heap.size ≤ k) ∧ RdS gr bw (r.mv s).2 w' ∧ Kr gr w w' := by
  have HT := hid (text_any gr bw)
  have HN := hid (number_r gr bw)
  have HQ := hid (request_any gr bw)
  have HP := hid (page_any gr bw)
  have HS := hid (set_any gr bw)
  have HF := hid (fail_any gr bw)
  obtain ⟨g0, hg0⟩ : ∃ g0, w.heap.size = g0 := ⟨_, rfl⟩
  obtain ⟨g1, hg1⟩ : ∃ g1, g0 + 1 = g1 := ⟨_, rfl⟩
  obtain ⟨W0, hW0⟩ : ∃ W0, w.alloc (.cells #[.int .i64 0, .int .i64 0, .string ⟨#[]⟩, .string ⟨#[]⟩, .string ⟨#[]⟩, .string ⟨#[]⟩, .slice none 0 0, .string ⟨#[]⟩, .string ⟨#[]⟩, .string ⟨#[]⟩, .int .i64 0, .string ⟨#[]⟩, .slice none 0 0, .int .i64 0, .int .i64 0, .int .i64 0, .int .i64 0, .int .i64 0, .int .i64 0, .string ⟨#[]⟩] 38) = W0 := ⟨_, rfl⟩
  have hs0 : W0.heap.size = g1 := by rw [← hW0, size_al]; omega
  have b0 : Below w.heap.size w W0 := by rw [← hW0]; exact bel1 _ _
  have q0 : W0.heap[g0]? = some (.cells mvZ 38 (0, 0)) := by rw [← hW0, heap_al, if_pos hg0.symm]; rfl
  have n0 : gr ≠ g0 := by have := h.lt; omega
  have n1 : gr ≠ g1 := by have := h.lt; omega
  have nb0 : bw ≠ g0 := by have := h.lb; omega
  have nb1 : bw ≠ g1 := by have := h.lb; omega
  have h8 : 8 ≤ g0 := by have := h.lt; have := h.g8; omega
  have h81 : 8 ≤ g1 := by omega
  have hw0 : w.heap.size ≤ g0 := by omega
  have hw1 : w.heap.size ≤ g1 := by omega
  have n01 : g0 ≠ g1 := by omega
  have hlt01 : g0 < g1 := by omega
  have HM := hid (moveOf_any s W0 (h.below b0).env)
  have hA : Below W0.heap.size W0 (W0.alloc (.cells #[.int .i64 0, .int .i64 0, .string ⟨#[]⟩, .string ⟨#[]⟩, .string ⟨#[]⟩, .string ⟨#[]⟩, .slice none 0 0, .string ⟨#[]⟩, .string ⟨#[]⟩, .string ⟨#[]⟩, .int .i64 0, .string ⟨#[]⟩, .slice none 0 0, .int .i64 0, .int .i64 0, .int .i64 0, .int .i64 0, .int .i64 0, .int .i64 0, .string ⟨#[]⟩] 38)) := bel1 _ _
  have HA1 : Hid ((W0.alloc (.cells #[.int .i64 0, .int .i64 0, .string ⟨#[]⟩, .string ⟨#[]⟩, .string ⟨#[]⟩, .string ⟨#[]⟩, .slice none 0 0, .string ⟨#[]⟩, .string ⟨#[]⟩, .string ⟨#[]⟩, .int .i64 0, .string ⟨#[]⟩, .slice none 0 0, .int .i64 0, .int .i64 0, .int .i64 0, .int .i64 0, .int .i64 0, .int .i64 0, .string ⟨#[]⟩] 38)).heap[g1]? = some (.cells #[.int .i64 0, .int .i64 0, .string ⟨#[]⟩, .string ⟨#[]⟩, .string ⟨#[]⟩, .string ⟨#[]⟩, .slice none 0 0, .string ⟨#[]⟩, .string ⟨#[]⟩, .string ⟨#[]⟩, .int .i64 0, .string ⟨#[]⟩, .slice none 0 0, .int .i64 0, .int .i64 0, .int .i64 0, .int .i64 0, .int .i64 0, .int .i64 0, .string ⟨#[]⟩] 38 (0, 0))) := hid (by rw [heap_al, if_pos hs0.symm])
  have HJ : Hid (BlJ 38 mvZ gr bw g0 g1 w r #[.int .i64 0, .int .i64 0, .string ⟨#[]⟩, .string ⟨#[]⟩, .string ⟨#[]⟩, .string ⟨#[]⟩, .slice none 0 0, .string ⟨#[]⟩, .string ⟨#[]⟩, .string ⟨#[]⟩, .int .i64 0, .string ⟨#[]⟩, .slice none 0 0, .int .i64 0, .int .i64 0, .int .i64 0, .int .i64 0, .int .i64 0, .int .i64 0, .string ⟨#[]⟩] (W0.alloc (.cells #[.int .i64 0, .int .i64 0, .string ⟨#[]⟩, .string ⟨#[]⟩, .string ⟨#[]⟩, .string ⟨#[]⟩, .slice none 0 0, .string ⟨#[]⟩, .string ⟨#[]⟩, .string ⟨#[]⟩, .int .i64 0, .string ⟨#[]⟩, .slice none 0 0, .int .i64 0, .int .i64 0, .int .i64 0, .int .i64 0, .int .i64 0, .int .i64 0, .string ⟨#[]⟩] 38))) := hid ⟨(h.below b0).below hA, Kr.tr (Ks.of_below b0) (Ks.of_below hA), HA1.out, (hA.block _ (by omega)).trans q0⟩
  have HG1 := hid hs0
  have HG0 := hid hg0
  have HW0 := hid hW0
  obtain ⟨K, hK0⟩ : ∃ K, moveOf s = K := ⟨_, rfl⟩
  obtain ⟨kI, hkI⟩ : ∃ kI : Int, (K : Int) = kI := ⟨_, rfl⟩
  have HK := hid hK0
  have HI := hid hkI
  rw [hK0, hkI] at HM
  have HL := hid hlen
  clear b0 q0 h hA hs0 hW0 hg0 hg1 hlen hK0 hkI
  go_enter Tryz.func65, Tryz.ntmps65
  go_wp2_with fail
  try rw [HG0.out]
  try rw [HW0.out]
  go_at_call 90
  refine HM.out.mono ?_
  rintro e Vx ⟨rfl, e2⟩
  subst e2
  go_upto_region 2 with (refine wpList_store_blj HJ.out n01 n1 nb1 h81 hw1 rfl 38 (.tmp 5) (.tmp 8) rfl 0 (mvK kI) (by rw [← HG1.out]; rfl) rfl (by kernel_rfl) (Nat.le_refl _) rfl (mvK kI) rfl ?_; intro V HJ1 hks1)
  try rw [HG1.out]
  replace HJ1 := hid HJ1
  have c0 := cell_blk HJ1.out.b1 0
  have l1 := heap_lt HJ1.out.b1
  have f1 := frozen_blk HJ1.out.b1
  rw [show (mvK kI)[0]? = some (.int .i64 kI) from rfl] at c0
  by_cases e1 : kI = 1
  · subst e1
    have HV := hid (mv_1 r s (by have := HK.out; have := HI.out; omega))
    go_wp2_with fail
    go_at_call 91
    refine (HQ.out _ _ HJ1.out.rd HL.out).mono ?_
    rintro e W1 ⟨v, rfl, hR, hO, hS, hK⟩
    replace hO : ∀ k, v.ownBlock = some k → g1 < k := fun k e => Nat.lt_of_lt_of_le l1 (hO k e)
    have HJ2 := hid (HJ1.out.call n0 n1 hS hK)
    obtain ⟨vb, vc', ev, _⟩ := hR.slice
    obtain ⟨vn, hvn⟩ : ∃ vn : Nat, r.rq.1.fs.length = vn := ⟨_, rfl⟩
    rw [hvn] at ev
    clear hvn
    subst ev
    go_wp2_with (first
      | (refine wpList_store_blj HJ2.out n01 n1 nb1 h81 hw1 rfl 31 (.tmp 18) (.tmp 17) rfl 2 #[.string r.rq.1.m, .string r.rq.1.s, .string r.rq.1.a, .string r.rq.1.p, .slice vb vn vc', .string r.rq.1.b] (by first | rfl | (rw [← HG1.out]; rfl)) rfl (by kernel_rfl) (Nat.le_of_ble_eq_true rfl) rfl (mvA { Mv.z with k := 1, rq := r.rq.1 } (.slice vb vn vc') (.slice none 0 0)) rfl ?_; intro V2 HJ3 hks2; replace HJ3 := hid HJ3)
      | (refine wpList_load_row rfl 38 (.tmp 5) rfl g1 (by first | rfl | (rw [← HG1.out]; rfl)) 38 _ (0, 0) _ HJ3.out.b1 Tryz.underlying38 rfl (by kernel_rfl) ?_)
      | (refine wpList_fin_blj HJ3.out n0 nb0 h8 hw0 rfl (.tmp 4) (.tmp 41) rfl rfl rfl (by kernel_rfl) (Nat.le_refl _) rfl (mvA { Mv.z with k := 1, rq := r.rq.1 } (.slice vb vn vc') (.slice none 0 0)) rfl ?_; intro V9 f1 f2 f3 fk))
    refine bodyPost_ret (results_cell_row (p := 4) (ty := 38) rfl _ _ g0 38 _ (0, 0) _ rfl f3 Tryz.underlying38 rfl (by kernel_rfl)) rfl ?_
    rw [HV.out]
    exact ⟨(.slice vb vn vc'), (.slice none 0 0), rfl, (hR.stays (fun k e hl => hks2.block k hl (by have := hO k e; omega))).stays (fun k e hl => fk.block k hl (by have := hO k e; omega)), R.nil _ _, fun k e => by have := hO k e; omega, fun k e => absurd e (by simp [Value.ownBlock]), f1, f2⟩
  by_cases e8 : kI = 8
  · subst e8
    have HV := hid (mv_8 r s (by have := HK.out; have := HI.out; omega))
    go_wp2_with fail
    go_at_call 86
    refine (HP.out _ _ HJ1.out.rd HL.out).mono ?_
    rintro e W1 ⟨v, rfl, hR, hO, hS, hK⟩
    replace hO : ∀ k, v.ownBlock = some k → g1 < k := fun k e => Nat.lt_of_lt_of_le l1 (hO k e)
    have HJ2 := hid (HJ1.out.call n0 n1 hS hK)
    obtain ⟨vb, vc', ev, _⟩ := hR.slice
    obtain ⟨vn, hvn⟩ : ∃ vn : Nat, r.pg.1.ch.length = vn := ⟨_, rfl⟩
    rw [hvn] at ev
    clear hvn
    subst ev
    go_wp2_with (first
      | (refine wpList_store_blj HJ2.out n01 n1 nb1 h81 hw1 rfl 34 (.tmp 23) (.tmp 22) rfl 8 #[.string r.pg.1.a, .string r.pg.1.p, .int .i64 r.pg.1.st, .string r.pg.1.vr, .slice vb vn vc'] (by first | rfl | (rw [← HG1.out]; rfl)) rfl (by kernel_rfl) (Nat.le_of_ble_eq_true rfl) rfl (mvA { Mv.z with k := 8, pg := r.pg.1 } (.slice none 0 0) (.slice vb vn vc')) rfl ?_; intro V2 HJ3 hks2; replace HJ3 := hid HJ3)
      | (refine wpList_load_row rfl 38 (.tmp 5) rfl g1 (by first | rfl | (rw [← HG1.out]; rfl)) 38 _ (0, 0) _ HJ3.out.b1 Tryz.underlying38 rfl (by kernel_rfl) ?_)
      | (refine wpList_fin_blj HJ3.out n0 nb0 h8 hw0 rfl (.tmp 4) (.tmp 41) rfl rfl rfl (by kernel_rfl) (Nat.le_refl _) rfl (mvA { Mv.z with k := 8, pg := r.pg.1 } (.slice none 0 0) (.slice vb vn vc')) rfl ?_; intro V9 f1 f2 f3 fk))
    refine bodyPost_ret (results_cell_row (p := 4) (ty := 38) rfl _ _ g0 38 _ (0, 0) _ rfl f3 Tryz.underlying38 rfl (by kernel_rfl)) rfl ?_
    rw [HV.out]
    exact ⟨(.slice none 0 0), (.slice vb vn vc'), rfl, R.nil _ _, (hR.stays (fun k e hl => hks2.block k hl (by have := hO k e; omega))).stays (fun k e hl => fk.block k hl (by have := hO k e; omega)), fun k e => absurd e (by simp [Value.ownBlock]), fun k e => by have := hO k e; omega, f1, f2⟩
  by_cases e9 : kI = 9
  · subst e9
    have HV := hid (mv_9 r s (by have := HK.out; have := HI.out; omega))
    go_wp2_with fail
    go_at_call 84
    refine (HS.out _ _ HJ1.out.rd).mono ?_
    rintro e W1 ⟨rfl, hS, hK⟩
    have HJ2 := hid (HJ1.out.call n0 n1 hS hK)
    go_wp2_with (first
      | (refine wpList_store_blj HJ2.out n01 n1 nb1 h81 hw1 rfl 36 (.tmp 28) (.tmp 27) rfl 13 (siA r.si.1) (by first | rfl | (rw [← HG1.out]; rfl)) rfl (by kernel_rfl) (Nat.le_of_ble_eq_true rfl) rfl (mvA { Mv.z with k := 9, si := r.si.1 } (.slice none 0 0) (.slice none 0 0)) rfl ?_; intro V2 HJ3 hks2; replace HJ3 := hid HJ3)
      | (refine wpList_load_row rfl 38 (.tmp 5) rfl g1 (by first | rfl | (rw [← HG1.out]; rfl)) 38 _ (0, 0) _ HJ3.out.b1 Tryz.underlying38 rfl (by kernel_rfl) ?_)
      | (refine wpList_fin_blj HJ3.out n0 nb0 h8 hw0 rfl (.tmp 4) (.tmp 41) rfl rfl rfl (by kernel_rfl) (Nat.le_refl _) rfl (mvA { Mv.z with k := 9, si := r.si.1 } (.slice none 0 0) (.slice none 0 0)) rfl ?_; intro V9 f1 f2 f3 fk))
    refine bodyPost_ret (results_cell_row (p := 4) (ty := 38) rfl _ _ g0 38 _ (0, 0) _ rfl f3 Tryz.underlying38 rfl (by kernel_rfl)) rfl ?_
    rw [HV.out]
    exact ⟨(.slice none 0 0), (.slice none 0 0), rfl, R.nil _ _, R.nil _ _, fun k e => absurd e (by simp [Value.ownBlock]), fun k e => absurd e (by simp [Value.ownBlock]), f1, f2⟩
  by_cases e10 : kI = 10
  · subst e10
    have HV := hid (mv_10 r s (by have := HK.out; have := HI.out; omega))
    go_wp2_with fail
    go_at_call 62
    refine (HN.out _ _ HJ1.out.rd).mono ?_
    rintro e W1 ⟨rfl, hS, hK⟩
    have HJ2 := hid (HJ1.out.call n0 n1 hS hK)
    clear hS hK
    go_wp2_with fail
    go_at_call 88
    refine (HT.out _ _ HJ2.out.rd).mono ?_
    rintro e W2 ⟨rfl, hS, hK⟩
    have HJ3 := hid (HJ2.out.call n0 n1 hS hK)
    have HJ5 := hid ((HJ3.out.setCell n01 n1 nb1 h81 hw1 1 (.int .i64 r.nu.1)).setCell n01 n1 nb1 h81 hw1 19 (.string (r.nu.2.nx 1).1))
    rw [show ((mvK 10).setIfInBounds 1 (.int .i64 r.nu.1)).setIfInBounds 19 (.string (r.nu.2.nx 1).1) = mvA { Mv.z with k := 10, n := r.nu.1, by' := (r.nu.2.nx 1).1 } (.slice none 0 0) (.slice none 0 0) from rfl] at HJ5
    have a1 := cell_blk HJ3.out.b1 1
    have a2 := cell_blk HJ3.out.b1 19
    have l2 := heap_lt HJ3.out.b1
    have f2 := frozen_blk HJ3.out.b1
    rw [show (mvK 10)[1]? = some (.int .i64 0) from rfl] at a1
    rw [show (mvK 10)[19]? = some (.string ⟨#[]⟩) from rfl] at a2
    go_wp2_with (first
      | (refine wpList_load_row rfl 38 (.tmp 5) rfl g1 (by first | rfl | (rw [← HG1.out]; rfl)) 38 _ (0, 0) _ HJ5.out.b1 Tryz.underlying38 rfl (by kernel_rfl) ?_)
      | (refine wpList_fin_blj HJ5.out n0 nb0 h8 hw0 rfl (.tmp 4) (.tmp 41) rfl rfl rfl (by kernel_rfl) (Nat.le_refl _) rfl (mvA { Mv.z with k := 10, n := r.nu.1, by' := (r.nu.2.nx 1).1 } (.slice none 0 0) (.slice none 0 0)) rfl ?_; intro V9 f1 f2 f3 fk))
    refine bodyPost_ret (results_cell_row (p := 4) (ty := 38) rfl _ _ g0 38 _ (0, 0) _ rfl f3 Tryz.underlying38 rfl (by kernel_rfl)) rfl ?_
    rw [HV.out]
    exact ⟨(.slice none 0 0), (.slice none 0 0), rfl, R.nil _ _, R.nil _ _, fun k e => absurd e (by simp [Value.ownBlock]), fun k e => absurd e (by simp [Value.ownBlock]), f1, f2⟩
  by_cases e0 : kI = 0
  · subst e0
    have HV := hid (mv_0 r s (by have := HK.out; have := HI.out; omega))
    go_wp2_with fail
    go_at_call 83
    refine (HF.out _ _ HJ1.out.rd).mono ?_
    rintro e W1 ⟨rfl, hS, hK⟩
    have HJ2 := hid (HJ1.out.call n0 n1 hS hK)
    go_wp2_with (first
      | (refine wpList_load_row rfl 38 (.tmp 5) rfl g1 (by first | rfl | (rw [← HG1.out]; rfl)) 38 _ (0, 0) _ HJ2.out.b1 Tryz.underlying38 rfl (by kernel_rfl) ?_)
      | (refine wpList_fin_blj HJ2.out n0 nb0 h8 hw0 rfl (.tmp 4) (.tmp 41) rfl rfl rfl (by kernel_rfl) (Nat.le_refl _) rfl (mvA { Mv.z with k := 0 } (.slice none 0 0) (.slice none 0 0)) rfl ?_; intro V9 f1 f2 f3 fk))
    refine bodyPost_ret (results_cell_row (p := 4) (ty := 38) rfl _ _ g0 38 _ (0, 0) _ rfl f3 Tryz.underlying38 rfl (by kernel_rfl)) rfl ?_
    rw [HV.out]
    exact ⟨(.slice none 0 0), (.slice none 0 0), rfl, R.nil _ _, R.nil _ _, fun k e => absurd e (by simp [Value.ownBlock]), fun k e => absurd e (by simp [Value.ownBlock]), f1, f2⟩
  have HV := hid (mv_n r s K HK.out (by have := HI.out; omega) (by have := HI.out; omega) (by have := HI.out; omega) (by have := HI.out; omega) (by have := HI.out; omega))
  rw [HI.out] at HV
  have d1 : (kI == 1) = false := by simpa using e1
  have d8 : (kI == 8) = false := by simpa using e8
  have d9 : (kI == 9) = false := by simpa using e9
  have d10 : (kI == 10) = false := by simpa using e10
  have d0 : (kI == 0) = false := by simpa using e0
  go_wp2_with fail
  go_at_call 62
  refine (HN.out _ _ HJ1.out.rd).mono ?_
  rintro e W1 ⟨rfl, hS, hK⟩
  have HJ3 := hid (HJ1.out.call n0 n1 hS hK)
  have HJ5 := hid (HJ3.out.setCell n01 n1 nb1 h81 hw1 1 (.int .i64 r.nu.1))
  rw [show (mvK kI).setIfInBounds 1 (.int .i64 r.nu.1) = mvA { Mv.z with k := kI, n := r.nu.1 } (.slice none 0 0) (.slice none 0 0) from rfl] at HJ5
  have a1 := cell_blk HJ3.out.b1 1
  have l2 := heap_lt HJ3.out.b1
  have f2 := frozen_blk HJ3.out.b1
  rw [show (mvK kI)[1]? = some (.int .i64 0) from rfl] at a1
  go_wp2_with (first
    | (refine wpList_load_row rfl 38 (.tmp 5) rfl g1 (by first | rfl | (rw [← HG1.out]; rfl)) 38 _ (0, 0) _ HJ5.out.b1 Tryz.underlying38 rfl (by kernel_rfl) ?_)
    | (refine wpList_fin_blj HJ5.out n0 nb0 h8 hw0 rfl (.tmp 4) (.tmp 41) rfl rfl rfl (by kernel_rfl) (Nat.le_refl _) rfl (mvA { Mv.z with k := kI, n := r.nu.1 } (.slice none 0 0) (.slice none 0 0)) rfl ?_; intro V9 f1 f2 f3 fk))
  refine bodyPost_ret (results_cell_row (p := 4) (ty := 38) rfl _ _ g0 38 _ (0, 0) _ rfl f3 Tryz.underlying38 rfl (by kernel_rfl)) rfl ?_
  rw [HV.out]
  exact ⟨(.slice none 0 0), (.slice none 0 0), rfl, R.nil _ _, R.nil _ _, fun k e => absurd e (by simp [Value.ownBlock]), fun k e => absurd e (by simp [Value.ownBlock]), f1, f2⟩
end Go.Proofs.YtghppkfopglgaaaGreatDoor
