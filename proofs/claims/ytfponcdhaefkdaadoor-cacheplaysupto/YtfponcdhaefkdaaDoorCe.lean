/- Store. -/
import Derived.Test.YtfponcdhaefkdaaDoorCd
namespace Go.Proofs.YtfponcdhaefkdaaDoor
open Go.RowKit
set_option linter.unusedVariables false
set_option linter.unusedSimpArgs false
theorem cell_eq {w w' : World} {k i : Nat} (h : w'.heap[k]? = w.heap[k]?) : w'.cell? ⟨k, i, none⟩ = w.cell? ⟨k, i, none⟩ := by unfold World.cell?; rw [h]
def starB (fr : List Fd) : Bool := decide (0 < cnt (allP (vsL fr varyS)) starS)
def nmF (fr : List Fd) : List ByteArray := nmL (allP (vsL fr varyS))
/-- may it not be kept? -/
def noB (c : Ca) (b : ByteArray) (fr : List Fd) : Bool := starB fr || (decide (c.me = 0) || decide (c.mb < ((b.size + szL fr : Nat) : Int)))
def stE (c : Ca) (q : Rq) (Q : List Fd) (n : Int) (b : ByteArray) (fr : List Fd) (st : Int) (y1 y2 y3 : SV) : En := ⟨⟨q.m, q.s, q.a, q.p, y1, ⟨#[]⟩⟩, y2, n, y3, b, b.size + szL fr, st, c.ck, Q.filter (fun f => inS (nmF fr) f.n), nmF fr, fr⟩
/-- what Store tells, and leaves -/
def stP (w : World) (g : Nat) (c : Ca) (y : SV) (L : List En) (q : Rq) (Q : List Fd) (n : Int) (b : ByteArray) (fr : List Fd) (st : Int) (r : Ending) (w' : World) : Prop :=
  (noB c b fr = true ∧ ∃ gs : SV, r = .returned (.tuple #[.bool false, sv gs]) ∧ Tk w w' g y c (L.dropWhile (exB c)) gs ((L.takeWhile (exB c)).map (·.st))) ∨
  (noB c b fr = false ∧ ∃ gs y1 y2 y3 z : SV, r = .returned (.tuple #[.bool true, sv gs]) ∧ Cx w' g c z (evL c (b.size + szL fr) (L.dropWhile (exB c)) ++ [stE c q Q n b fr st y1 y2 y3]) ∧ (∀ k, (sv z).ownBlock = some k → (sv y).ownBlock = some k ∨ w.heap.size ≤ k) ∧ Ks (Ow g y) w w' ∧ R EI w' (sv gs) ((L.takeWhile (exB c)).map (·.st) ++ (evD c (b.size + szL fr) (L.dropWhile (exB c))).map (·.st)) ∧ (∀ k, (sv gs).ownBlock = some k → w.heap.size ≤ k) ∧ ∀ k, eblk (stE c q Q n b fr st y1 y2 y3) k → w.heap.size ≤ k)
set_option maxHeartbeats 16000000 in
set_option maxRecDepth 100000 in
theorem store_any (w : World) (g : Nat) (c : Ca) (y : SV) (L : List En) (h : Cx w g c y L) (q : Rq) (Q : List Fd) (n : Int) (ry : SV) (b : ByteArray) (fr : List Fd) (st t : Int) (ht : t ≤ 9223372036854775807)
    (hQ : ∀ V, Ks (Ow g y) w V → In EFd V (sv q.y) Q) (hR : ∀ V, Ks (Ow g y) w V → In EFd V (sv ry) fr)
    (zq : q.m.size ≤ 281474976710656 ∧ q.s.size ≤ 281474976710656 ∧ q.a.size ≤ 281474976710656 ∧ q.p.size ≤ 281474976710656) (zQ : Q.length ≤ 1099511627776) (zQf : ∀ f ∈ Q, fz f) (zb : b.size ≤ 281474976710656) (zR : fr.length ≤ 1099511627776) (zRf : ∀ f ∈ fr, f.n.size ≤ 140737488355328 ∧ f.v.size ≤ 140737488355328)
    (zS : b.size + szL fr ≤ 4611686018427387904) (zN : (allP (vsL fr varyS)).length ≤ 4398046511104) :
    Calls Tryd.prog 11 #[.pointer (some ⟨g, 0, none⟩), .agg (rqv q), .agg (rsv n (sv ry) b), .int .i64 st, .int .i64 t] w fun r w' => stP w g (hr c t) y L q Q n b fr st r w' := by
  obtain ⟨W, hW⟩ : ∃ W, (w.alloc (.cells (rqv q) 24)).alloc (.cells (rsv n (sv ry) b) 26) = W := ⟨_, rfl⟩
  obtain ⟨qb, hqb⟩ : ∃ k, w.heap.size = k := ⟨_, rfl⟩
  obtain ⟨rb, hrb⟩ : ∃ k, qb + 1 = k := ⟨_, rfl⟩
  have hbW : Below w.heap.size w W := by rw [← hW]; exact bel2 _ _ _
  have hqW : RqB W qb q := by unfold RqB; rw [← hW, ← hqb, heap_al, if_neg (by simp), heap_al, if_pos rfl]
  have hrW : W.heap[rb]? = some (.cells (rsv n (sv ry) b) 26 (0, 0)) := by rw [← hW, ← hrb, ← hqb]; exact fresh2 _ _ _
  have HLt : Hid (∀ k, Cb g y L k → k < w.heap.size) := fun k hk => h.lt hk
  have HQR : Hid (w.heap.size ≤ qb ∧ w.heap.size ≤ rb) := ⟨by omega, by omega⟩
  have HTick : Hid (Calls Tryd.prog 10 #[.pointer (some ⟨g, 0, none⟩), .int .i64 t] W fun r w' => tkP W g (hr c t) y L r w') := tick_any W g c y L (h.below hbW) t ht
  have HbW : Hid (Below w.heap.size w W) := hbW
  have HqW : Hid (RqB W qb q ∧ W.heap[rb]? = some (.cells (rsv n (sv ry) b) 26 (0, 0))) := ⟨hqW, hrW⟩
  have zv : ∀ v ∈ vsL fr varyS, v.size ≤ 140737488355328 := fun v hv => by
    unfold vsL at hv
    obtain ⟨f, hf, e⟩ := List.mem_filterMap.1 hv
    split at e
    · injection e with e; rw [← e]; exact (zRf f hf).2
    · cases e
  have HNames : Hid (∀ V, Ks (Ow g y) w V → Calls Tryd.prog 7 #[.agg (rsv n (sv ry) b)] V fun e w' => NmPost (vsL fr varyS) V e w') := fun V hV => names_any n ry b fr V (hR V hV) (by omega) zv zN
  have HSize : Hid (∀ V, Ks (Ow g y) w V → Calls Tryd.prog 25 #[.agg (rsv n (sv ry) b)] V fun e w' => e = .returned (.int .i64 ((b.size + szL fr : Nat) : Int)) ∧ Below V.heap.size V w') := fun V hV => size_any n ry b fr V (hR V hV) zS
  have HCq0 : Hid (∀ V, Ks (Ow g y) w V → ∀ ny : SV, R ES V (sv ny) (nmF fr) → Calls Tryd.prog 38 #[.agg (rqv q), sv ny] V fun e w' => ∃ z : SV, e = .returned (.agg (rqv ⟨q.m, q.s, q.a, q.p, z, ⟨#[]⟩⟩)) ∧ Below V.heap.size V w' ∧ R EFd w' (sv z) (Q.filter fun f => inS (nmF fr) f.n) ∧ ∀ k, (sv z).ownBlock = some k → V.heap.size ≤ k) := fun V hV ny hny => copiedRequest_any q ny Q (nmF fr) V (hQ V hV) hny.isIn zQ zQf zq
  have HCr0 : Hid (∀ V, Ks (Ow g y) w V → Calls Tryd.prog 39 #[.agg (rsv n (sv ry) b)] V fun e w' => ∃ z : SV, e = .returned (.agg (rsv n (sv z) b)) ∧ Below V.heap.size V w' ∧ R EFd w' (sv z) fr ∧ ∀ k, (sv z).ownBlock = some k → V.heap.size ≤ k) := fun V hV => copiedResponse_any n ry b fr V (hR V hV) zR (fun f hf => ⟨by have := (zRf f hf).1; omega, by have := (zRf f hf).2; omega⟩) zb
  obtain ⟨c', hc'⟩ : ∃ c', hr c t = c' := ⟨_, rfl⟩
  rw [hc'] at HTick ⊢
  obtain ⟨z, hz⟩ : ∃ z, b.size + szL fr = z := ⟨_, rfl⟩
  have HZ : Hid (b.size + szL fr = z ∧ z ≤ 4611686018427387904) := ⟨hz, by omega⟩
  rw [hz] at HSize
  have HFq : Hid ((Q.filter fun f => inS (nmF fr) f.n).length ≤ 1099511627776) := Nat.le_trans (List.length_filter_le _ _) zQ
  have HL64 : Hid (L.length ≤ 64) := by have := h.ok.len; have := h.ok.me; show _ ≤ _; omega
  obtain ⟨m, s, a, p, ⟨q1, q2, q3⟩, b0⟩ := q
  obtain ⟨r1, r2, r3⟩ := ry
  simp only [sv, rqv, rsv] at hW HNames HSize HCq0 HCr0 ⊢
  clear h hQ hR zq zQ zQf zb zR zRf zS zN zv hbW hqW hrW hc' hz ht
  go_enter Tryd.func11, Tryd.ntmps11
  go_wp2_with fail
  try rw [hW]
  try rw [hqb]
  try rw [hrb]
  clear hW hqb hrb
  go_at_call 10
  refine HTick.out.mono ?_
  rintro e w1 ⟨⟨gb, gl, gc⟩, rfl, hT⟩
  have hT1 : Tk w w1 g y c' (L.dropWhile (exB c')) (gb, gl, gc) ((L.takeWhile (exB c')).map (·.st)) := hT.base HbW.out (fun k hk => HLt.out k (hk.imp id fun ⟨e, he, hb⟩ => ⟨e, (List.dropWhile_sublist _).subset he, hb⟩))
  have hnoW : ∀ k, w.heap.size ≤ k → ¬ Ow g y k := fun k hk ho => by have := HLt.out k (.inl ho); omega
  have HT1 : Hid (Tk w w1 g y c' (L.dropWhile (exB c')) (gb, gl, gc) ((L.takeWhile (exB c')).map (·.st))) := hT1
  have HB1 : Hid (RqB w1 qb ⟨m, s, a, p, (q1, q2, q3), b0⟩ ∧ w1.heap[rb]? = some (.cells (rsv n (sv (r1, r2, r3)) b) 26 (0, 0))) := ⟨(hT.ks.block qb (heap_lt HqW.out.1) (hnoW _ HQR.out.1)).trans HqW.out.1, (hT.ks.block rb (heap_lt HqW.out.2) (hnoW _ HQR.out.2)).trans HqW.out.2⟩
  have p0 := cell_blk HB1.out.2 0
  have p1 := cell_blk HB1.out.2 1
  have p2 := cell_blk HB1.out.2 2
  simp only [rsv, List.getElem?_toArray, List.getElem?_cons_succ, List.getElem?_cons_zero, sv] at p0 p1 p2
  simp only [sv]
  clear hT hT1 hnoW HTick HqW
  go_wp2_with fail
  go_at_call 7
  refine (HNames.out _ HT1.out.ks).mono ?_
  rintro e w2 ⟨⟨n1, n2, n3⟩, rfl, b2, hNr, hNn⟩
  have HS2 : Hid (So w w2 g y c' (L.dropWhile (exB c')) (gb, gl, gc) ((L.takeWhile (exB c')).map (·.st)) qb rb ⟨m, s, a, p, (q1, q2, q3), b0⟩ n (r1, r2, r3) b (n1, n2, n3) (nmF fr)) := ⟨HT1.out.below b2, HB1.out.1.below b2, (b2.block _ (heap_lt HB1.out.2)).trans HB1.out.2, hNr, fun k hk => Nat.le_trans HT1.out.ks.size (hNn k hk), HQR.out.1, HQR.out.2⟩
  have p0 := cell_blk HS2.out.br 0
  have p1 := cell_blk HS2.out.br 1
  have p2 := cell_blk HS2.out.br 2
  simp only [rsv, List.getElem?_toArray, List.getElem?_cons_succ, List.getElem?_cons_zero, sv] at p0 p1 p2
  simp only [sv]
  obtain ⟨sB, hsB⟩ : ∃ B, decide (0 < cnt (allP (vsL fr varyS)) starS) = B := ⟨_, rfl⟩
  have HsB : Hid (starB fr = sB) := hsB
  rw [hsB]
  clear b2 hNr hNn HT1 HB1 HNames hsB
  go_wp2_with fail
  go_at_call 25
  refine (HSize.out _ HS2.out.tk.ks).mono ?_
  rintro e w3 ⟨rfl, b3⟩
  have HS3 : Hid (So w w3 g y c' (L.dropWhile (exB c')) (gb, gl, gc) ((L.takeWhile (exB c')).map (·.st)) qb rb ⟨m, s, a, p, (q1, q2, q3), b0⟩ n (r1, r2, r3) b (n1, n2, n3) (nmF fr)) := HS2.out.below b3
  clear b3 HS2 HSize p0 p1 p2
  obtain ⟨zz, hX3, hzz⟩ := HS3.out.tk.cx
  obtain ⟨c0, c1, c2, c3, c4, cf⟩ := hX3.cells
  have lg := heap_lt hX3.blk
  have HC' : Hid (0 ≤ c'.me) := hX3.ok.me.1
  clear c2 c3 c4 cf hX3 hzz
  cases sB
  · by_cases hme : c'.me = 0
    · have HE : Hid (stP w g c' y L ⟨m, s, a, p, (q1, q2, q3), b0⟩ Q n b fr st (.returned (.tuple #[.bool false, .slice gb gl gc])) w3) := .inl ⟨by unfold noB; rw [HsB.out, decide_eq_true hme]; simp, (gb, gl, gc), rfl, HS3.out.tk⟩
      rw [hme] at c0
      clear hme HS3
      go_wp2_with fail
      go_ret2
      exact HE.out
    · have hme' : (c'.me == 0) = false := beq_eq_false_iff_ne.2 hme
      by_cases hmb : c'.mb < (z : Int)
      · have HE : Hid (stP w g c' y L ⟨m, s, a, p, (q1, q2, q3), b0⟩ Q n b fr st (.returned (.tuple #[.bool false, .slice gb gl gc])) w3) := .inl ⟨by unfold noB; rw [HZ.out.1, decide_eq_true hmb]; simp, (gb, gl, gc), rfl, HS3.out.tk⟩
        clear HS3
        go_wp2_with fail
        go_ret2
        exact HE.out
      · have HNo : Hid (noB c' b fr = false) := by show _ = _; unfold noB; rw [HsB.out, HZ.out.1, decide_eq_false hme, decide_eq_false hmb]; rfl
        have HLk0 : Hid (lkB c' [] z = false) := by
          show _ = _
          unfold lkB
          have := HC'.out
          rw [decide_eq_false (by simp; omega), decide_eq_false (by simp [totL]; omega)]
          rfl
        have HM0 : Hid ((L.dropWhile (exB c')).length ≤ 64 ∧ (L.takeWhile (exB c')).length ≤ 64) := ⟨Nat.le_trans (List.dropWhile_sublist _).length_le HL64.out, Nat.le_trans (List.takeWhile_sublist _).length_le HL64.out⟩
        obtain ⟨M0, hM0⟩ : ∃ M, L.dropWhile (exB c') = M := ⟨_, rfl⟩
        obtain ⟨D0, hD0⟩ : ∃ M, (L.takeWhile (exB c')).map (·.st) = M := ⟨_, rfl⟩
        have HMD : Hid (L.dropWhile (exB c') = M0 ∧ (L.takeWhile (exB c')).map (·.st) = D0 ∧ D0.length ≤ 64) := ⟨hM0, hD0, by rw [← hD0, List.length_map]; exact HM0.out.2⟩
        rw [hM0] at HM0 HS3
        rw [hD0] at HS3
        have HLt0 : Hid (∀ k, (Ow g y k ∨ ∃ e ∈ M0, eblk e k) → k < w.heap.size) := fun k hk => HLt.out k (hk.imp id fun ⟨e, he, hb⟩ => ⟨e, by rw [← hM0] at he; exact (List.dropWhile_sublist _).subset he, hb⟩)
        clear hM0 hD0
        go_wp2_with fail
        clear c0 c1
        go_loopw [12] (fun gv wr => ∃ (gb : Option Addr) (gl gc : Nat) (D1 M : List En), gv = .slice gb gl gc ∧ Hid (D1 ++ M = M0 ∧ evL c' z M = evL c' z M0 ∧ D1 ++ evD c' z M = evD c' z M0 ∧ So w wr g y c' M (gb, gl, gc) (D0 ++ D1.map (·.st)) qb rb ⟨m, s, a, p, (q1, q2, q3), b0⟩ n (r1, r2, r3) b (n1, n2, n3) (nmF fr))) (fun _ wr => lenAt g wr)
        case atStart => exact ⟨gb, gl, gc, [], M0, rfl, rfl, rfl, rfl, by simpa using HS3.out⟩
        case round =>
          clear HS3
          obtain ⟨gb, gl, gc, D1, M, rfl, hJ⟩ := hrel
          obtain ⟨zz, hXr, hzz⟩ := hJ.out.2.2.2.tk.cx
          have HLk : Hid (Calls Tryd.prog 37 #[.pointer (some ⟨g, 0, none⟩), .int .i64 (z : Int)] wr fun r w' => r = .returned (.bool (lkB c' M z)) ∧ Below wr.heap.size wr w') := lacksRoom_any wr g c' zz M hXr z HZ.out.2
          have HMl : Hid (lenAt g wr = M.length) := hXr.lenAt
          have HD64 : Hid ((D0 ++ D1.map (·.st)).length ≤ 1000 ∧ M.length ≤ 64) := by
            have h1 := congrArg List.length hJ.out.1
            rw [List.length_append] at h1
            have h2 := HM0.out.1
            have h3 := HMD.out.2.2
            refine ⟨?_, by omega⟩
            rw [List.length_append, List.length_map]
            omega
          have HJ : Hid (D1 ++ M = M0 ∧ evL c' z M = evL c' z M0 ∧ D1 ++ evD c' z M = evD c' z M0) := ⟨hJ.out.1, hJ.out.2.1, hJ.out.2.2.1⟩
          have HS : Hid (So w wr g y c' M (gb, gl, gc) (D0 ++ D1.map (·.st)) qb rb ⟨m, s, a, p, (q1, q2, q3), b0⟩ n (r1, r2, r3) b (n1, n2, n3) (nmF fr)) := hJ.out.2.2.2
          clear hXr hzz hJ
          cases hlk : lkB c' M z
          · rw [hlk] at HLk
            have HLkF : Hid (lkB c' M z = false) := hlk
            clear hlk
            go_wp2_with fail
            go_at_call 37
            refine HLk.out.mono ?_
            rintro e w4 ⟨rfl, b4⟩
            have HS4 : Hid (So w w4 g y c' M (gb, gl, gc) (D0 ++ D1.map (·.st)) qb rb ⟨m, s, a, p, (q1, q2, q3), b0⟩ n (r1, r2, r3) b (n1, n2, n3) (nmF fr)) := HS.out.below b4
            clear b4 HS HLk
            have HEv : Hid (evL c' z M0 = M ∧ evD c' z M0 = D1) := by
              have h1 : evL c' z M = M ∧ evD c' z M = [] := by
                rcases M with _ | ⟨x, M⟩
                · exact ⟨rfl, rfl⟩
                · unfold evL evD
                  rw [HLkF.out]
                  exact ⟨rfl, rfl⟩
              have h2 := HJ.out
              rw [h1.1, h1.2, List.append_nil] at h2
              exact ⟨h2.2.1.symm, h2.2.2.symm⟩
            obtain ⟨⟨z1, z2, z3⟩, hX8, hzy⟩ := HS4.out.tk.cx
            go_upto_region 8 with fail
            obtain ⟨nm, hnm⟩ : ∃ l, nmF fr = l := ⟨_, rfl⟩
            have HX8 : Hid (Cx w4 g c' (z1, z2, z3) M) := hX8
            have HZy : Hid ((Value.slice z1 z2 z3).ownBlock = (sv y).ownBlock) := hzy
            have HZ2 : Hid (M.length = z2) := by obtain ⟨_, _, e, _⟩ := hX8.row.slice; simp only [sv] at e; injection e with _ e; exact e.symm
            have HM64 : Hid (M.length ≤ 64) := HD64.out.2
            have HLtM : Hid (∀ k, (Ow g y k ∨ ∃ e ∈ M, eblk e k) → k < w.heap.size) := HS4.out.tk.lt
            have HQl : Hid (qb < w4.heap.size ∧ rb < w4.heap.size ∧ w.heap.size ≤ qb ∧ w.heap.size ≤ rb) := ⟨heap_lt HS4.out.bq, heap_lt HS4.out.br, HS4.out.hq, HS4.out.hr⟩
            have HBw : Hid (w.heap.size ≤ w4.heap.size) := HS4.out.tk.ks.size
            have HKs8 : Hid (Ks (Ow g y) w w4) := HS4.out.tk.ks
            have HNr : Hid (R ES w4 (.slice n1 n2 n3) nm) := by rw [← hnm]; exact HS4.out.nr
            have HNn : Hid (∀ k, (Value.slice n1 n2 n3).ownBlock = some k → w.heap.size ≤ k) := HS4.out.nw
            have HGn : Hid (R EI w4 (.slice gb gl gc) (D0 ++ D1.map (·.st))) := HS4.out.tk.gone
            have HGw : Hid (∀ k, (Value.slice gb gl gc).ownBlock = some k → w.heap.size ≤ k) := HS4.out.tk.new
            have HCq : Hid (∀ V, Below w4.heap.size w4 V → Calls Tryd.prog 38 #[.agg #[.string m, .string s, .string a, .string p, .slice q1 q2 q3, .string b0], .slice n1 n2 n3] V fun e w' => ∃ z : SV, e = .returned (.agg (rqv ⟨m, s, a, p, z, ⟨#[]⟩⟩)) ∧ Below V.heap.size V w' ∧ R EFd w' (sv z) (Q.filter fun f => inS nm f.n) ∧ ∀ k, (sv z).ownBlock = some k → V.heap.size ≤ k) := fun V hV => by
              have := HCq0.out V (HKs8.out.bel hV) (n1, n2, n3) (by rw [hnm]; exact HNr.out.below hV)
              rw [hnm] at this
              exact this
            have HCr : Hid (∀ V, Below w4.heap.size w4 V → Calls Tryd.prog 39 #[.agg #[.int .i64 n, .slice r1 r2 r3, .string b]] V fun e w' => ∃ z : SV, e = .returned (.agg (rsv n (sv z) b)) ∧ Below V.heap.size V w' ∧ R EFd w' (sv z) fr ∧ ∀ k, (sv z).ownBlock = some k → V.heap.size ≤ k) := fun V hV => HCr0.out V (HKs8.out.bel hV)
            have HFq : Hid ((Q.filter fun f => inS nm f.n).length ≤ 1099511627776) := by rw [← hnm]; exact HFq.out
            have hS8 : Hid (∀ V, Below w4.heap.size w4 V → V.cell? ⟨qb, 0, none⟩ = some (.string m) ∧ V.cell? ⟨qb, 1, none⟩ = some (.string s) ∧ V.cell? ⟨qb, 2, none⟩ = some (.string a) ∧ V.cell? ⟨qb, 3, none⟩ = some (.string p) ∧ V.cell? ⟨qb, 4, none⟩ = some (.slice q1 q2 q3) ∧ V.cell? ⟨qb, 5, none⟩ = some (.string b0) ∧ V.cell? ⟨rb, 0, none⟩ = some (.int .i64 n) ∧ V.cell? ⟨rb, 1, none⟩ = some (.slice r1 r2 r3) ∧ V.cell? ⟨rb, 2, none⟩ = some (.string b) ∧ V.cell? ⟨g, 3, none⟩ = some (.int .i64 c'.ck)) := fun V hV => by
              have h1 := (HS4.out.bq.below hV).cells
              have h2 := (hV.block _ (heap_lt HS4.out.br)).trans HS4.out.br
              exact ⟨h1.1, h1.2.1, h1.2.2.1, h1.2.2.2.1, h1.2.2.2.2.1, h1.2.2.2.2.2.1, cell_blk h2 0, cell_blk h2 1, cell_blk h2 2, (HX8.out.below hV).cells.2.2.2.1⟩
            have HEvA : Hid (∀ u1 u2 u3 v1 v2 v3, (M ++ [(⟨⟨m, s, a, p, (u1, u2, u3), ⟨#[]⟩⟩, (n1, n2, n3), n, (v1, v2, v3), b, z, st, c'.ck, Q.filter (fun f => inS nm f.n), nm, fr⟩ : En)] = evL c' (b.size + szL fr) (L.dropWhile (exB c')) ++ [stE c' ⟨m, s, a, p, (q1, q2, q3), b0⟩ Q n b fr st (u1, u2, u3) (n1, n2, n3) (v1, v2, v3)]) ∧ (D0 ++ D1.map (·.st) = (L.takeWhile (exB c')).map (·.st) ++ (evD c' (b.size + szL fr) (L.dropWhile (exB c'))).map (·.st))) := fun u1 u2 u3 v1 v2 v3 => by
              refine ⟨?_, ?_⟩
              · rw [HMD.out.1, HZ.out.1, HEv.out.1]
                unfold stE
                rw [hnm, HZ.out.1]
              · rw [HMD.out.1, HMD.out.2.1, HZ.out.1, HEv.out.2]
            have HLk : Hid (lkB c' M z = false) := HLkF.out
            obtain ⟨D, hD⟩ : ∃ D, D0 ++ D1.map (·.st) = D := ⟨_, rfl⟩
            rw [hD] at HGn HEvA
            clear hX8 hzy HS4 HEv HJ hD hnm HCq0 HCr0 HMD HM0 HLkF HD64
            have hIW : Below w4.heap.size w4 w4.drew := (Below.refl _ _).drew
            refine wp_region_held_drew (S := (fun V => V.cell? ⟨qb, 0, none⟩ = some (.string m) ∧ V.cell? ⟨qb, 1, none⟩ = some (.string s) ∧ V.cell? ⟨qb, 2, none⟩ = some (.string a) ∧ V.cell? ⟨qb, 3, none⟩ = some (.string p) ∧ V.cell? ⟨qb, 4, none⟩ = some (.slice q1 q2 q3) ∧ V.cell? ⟨qb, 5, none⟩ = some (.string b0) ∧ V.cell? ⟨rb, 0, none⟩ = some (.int .i64 n) ∧ V.cell? ⟨rb, 1, none⟩ = some (.slice r1 r2 r3) ∧ V.cell? ⟨rb, 2, none⟩ = some (.string b) ∧ V.cell? ⟨g, 3, none⟩ = some (.int .i64 c'.ck))) (by kernel_rfl) (hS8.out _ hIW) (fun hHeld => ?_)
            generalize hWg : World.drew _ = W8 at hIW hHeld ⊢
            clear hWg
            refine wpAnyH_take (i := 0) (oi := { dst := some 51, op := Op.move (Operand.tmp 0), type := 30, pos := "cache.go:64", after := #[], guard := none }) (v := ?vv1) rfl (by kernel_rfl) (by kernel_rfl) (by kernel_rfl) (fun _ _ _ h => h) (Or.inl ⟨by rfl, ?hy1⟩) (by assumption) ?_
            case hy1 => (intro w hSw; (try dsimp only at hSw); go_simp; all_goals with_reducible rfl)
            try simp only [Act.put, List.setIfInBounds_toArray, List.set_cons_zero, List.set_cons_succ]
            refine wpAnyH_take (i := 1) (oi := { dst := some 52, op := Op.move (Operand.tmp 0), type := 30, pos := "cache.go:64", after := #[], guard := none }) (v := ?vv2) rfl (by kernel_rfl) (by kernel_rfl) (by kernel_rfl) (fun _ _ _ h => h) (Or.inl ⟨by rfl, ?hy2⟩) (by assumption) ?_
            case hy2 => (intro w hSw; (try dsimp only at hSw); go_simp; all_goals with_reducible rfl)
            try simp only [Act.put, List.setIfInBounds_toArray, List.set_cons_zero, List.set_cons_succ]
            refine wpAnyH_take (i := 2) (oi := { dst := some 53, op := Op.nilCheck (Operand.tmp 52), type := 0, pos := "cache.go:64", after := #[{ on := 1, ground := Ground.data }], guard := none }) (v := ?vv3) rfl (by kernel_rfl) (by kernel_rfl) (by kernel_rfl) (fun _ _ _ h => h) (Or.inl ⟨by rfl, ?hy3⟩) (by assumption) ?_
            case hy3 => (intro w hSw; (try dsimp only at hSw); go_simp; all_goals with_reducible rfl)
            try simp only [Act.put, List.setIfInBounds_toArray, List.set_cons_zero, List.set_cons_succ]
            refine wpAnyH_take (i := 3) (oi := { dst := some 54, op := Op.fieldAddr 83 (Operand.tmp 53) 4, type := 0, pos := "cache.go:64", after := #[{ on := 2, ground := Ground.data }], guard := none }) (v := ?vv4) rfl (by kernel_rfl) (by kernel_rfl) (by kernel_rfl) (fun _ _ _ h => h) (Or.inl ⟨by rfl, ?hy4⟩) (by assumption) ?_
            case hy4 => (intro w hSw; (try dsimp only at hSw); go_simp; all_goals with_reducible rfl)
            try simp only [Act.put, List.setIfInBounds_toArray, List.set_cons_zero, List.set_cons_succ]
            refine wpAnyH_take (i := 5) (oi := { dst := some 56, op := Op.load 24 (Operand.tmp 6), type := 24, pos := "cache.go:64", after := #[], guard := none }) (v := ?vv5) rfl (by kernel_rfl) (by kernel_rfl) (by kernel_rfl) (fun _ _ _ h => h) (Or.inl ⟨by rfl, ?hy5⟩) (by assumption) ?_
            case hy5 => (intro w hSw; (try dsimp only at hSw); go_simp; all_goals with_reducible rfl)
            try simp only [Act.put, List.setIfInBounds_toArray, List.set_cons_zero, List.set_cons_succ]
            refine wpAnyH_take (i := 6) (oi := { dst := some 57, op := Op.move (Operand.tmp 13), type := 27, pos := "cache.go:64", after := #[], guard := none }) (v := ?vv6) rfl (by kernel_rfl) (by kernel_rfl) (by kernel_rfl) (fun _ _ _ h => h) (Or.inl ⟨by rfl, ?hy6⟩) (by assumption) ?_
            case hy6 => (intro w hSw; (try dsimp only at hSw); go_simp; all_goals with_reducible rfl)
            try simp only [Act.put, List.setIfInBounds_toArray, List.set_cons_zero, List.set_cons_succ]
            refine wpAnyH_take (i := 8) (oi := { dst := some 59, op := Op.move (Operand.tmp 13), type := 27, pos := "cache.go:64", after := #[], guard := none }) (v := ?vv7) rfl (by kernel_rfl) (by kernel_rfl) (by kernel_rfl) (fun _ _ _ h => h) (Or.inl ⟨by rfl, ?hy7⟩) (by assumption) ?_
            case hy7 => (intro w hSw; (try dsimp only at hSw); go_simp; all_goals with_reducible rfl)
            try simp only [Act.put, List.setIfInBounds_toArray, List.set_cons_zero, List.set_cons_succ]
            refine wpAnyH_take (i := 9) (oi := { dst := some 60, op := Op.load 26 (Operand.tmp 7), type := 26, pos := "cache.go:64", after := #[], guard := none }) (v := ?vv8) rfl (by kernel_rfl) (by kernel_rfl) (by kernel_rfl) (fun _ _ _ h => h) (Or.inl ⟨by rfl, ?hy8⟩) (by assumption) ?_
            case hy8 => (intro w hSw; (try dsimp only at hSw); go_simp; all_goals with_reducible rfl)
            try simp only [Act.put, List.setIfInBounds_toArray, List.set_cons_zero, List.set_cons_succ]
            refine wpAnyH_take (i := 11) (oi := { dst := some 62, op := Op.move (Operand.tmp 15), type := 2, pos := "cache.go:64", after := #[], guard := none }) (v := ?vv9) rfl (by kernel_rfl) (by kernel_rfl) (by kernel_rfl) (fun _ _ _ h => h) (Or.inl ⟨by rfl, ?hy9⟩) (by assumption) ?_
            case hy9 => (intro w hSw; (try dsimp only at hSw); go_simp; all_goals with_reducible rfl)
            try simp only [Act.put, List.setIfInBounds_toArray, List.set_cons_zero, List.set_cons_succ]
            refine wpAnyH_take (i := 12) (oi := { dst := some 63, op := Op.move (Operand.tmp 3), type := 2, pos := "cache.go:64", after := #[], guard := none }) (v := ?vv10) rfl (by kernel_rfl) (by kernel_rfl) (by kernel_rfl) (fun _ _ _ h => h) (Or.inl ⟨by rfl, ?hy10⟩) (by assumption) ?_
            case hy10 => (intro w hSw; (try dsimp only at hSw); go_simp; all_goals with_reducible rfl)
            try simp only [Act.put, List.setIfInBounds_toArray, List.set_cons_zero, List.set_cons_succ]
            refine wpAnyH_take (i := 13) (oi := { dst := some 64, op := Op.move (Operand.tmp 0), type := 30, pos := "cache.go:64", after := #[], guard := none }) (v := ?vv11) rfl (by kernel_rfl) (by kernel_rfl) (by kernel_rfl) (fun _ _ _ h => h) (Or.inl ⟨by rfl, ?hy11⟩) (by assumption) ?_
            case hy11 => (intro w hSw; (try dsimp only at hSw); go_simp; all_goals with_reducible rfl)
            try simp only [Act.put, List.setIfInBounds_toArray, List.set_cons_zero, List.set_cons_succ]
            refine wpAnyH_take (i := 14) (oi := { dst := some 65, op := Op.nilCheck (Operand.tmp 64), type := 0, pos := "cache.go:64", after := #[{ on := 13, ground := Ground.data }], guard := none }) (v := ?vv12) rfl (by kernel_rfl) (by kernel_rfl) (by kernel_rfl) (fun _ _ _ h => h) (Or.inl ⟨by rfl, ?hy12⟩) (by assumption) ?_
            case hy12 => (intro w hSw; (try dsimp only at hSw); go_simp; all_goals with_reducible rfl)
            try simp only [Act.put, List.setIfInBounds_toArray, List.set_cons_zero, List.set_cons_succ]
            refine wpAnyH_take (i := 15) (oi := { dst := some 66, op := Op.fieldAddr 83 (Operand.tmp 65) 3, type := 0, pos := "cache.go:64", after := #[{ on := 14, ground := Ground.data }], guard := none }) (v := ?vv13) rfl (by kernel_rfl) (by kernel_rfl) (by kernel_rfl) (fun _ _ _ h => h) (Or.inl ⟨by rfl, ?hy13⟩) (by assumption) ?_
            case hy13 => (intro w hSw; (try dsimp only at hSw); go_simp; all_goals with_reducible rfl)
            try simp only [Act.put, List.setIfInBounds_toArray, List.set_cons_zero, List.set_cons_succ]
            refine wpAnyH_take (i := 16) (oi := { dst := some 67, op := Op.load 2 (Operand.tmp 66), type := 2, pos := "cache.go:64", after := #[{ on := 15, ground := Ground.data }], guard := none }) (v := ?vv14) rfl (by kernel_rfl) (by kernel_rfl) (by kernel_rfl) (fun _ _ _ h => h) (Or.inl ⟨by rfl, ?hy14⟩) (by assumption) ?_
            case hy14 => (intro w hSw; (try dsimp only at hSw); go_simp; all_goals with_reducible rfl)
            try simp only [Act.put, List.setIfInBounds_toArray, List.set_cons_zero, List.set_cons_succ]
            refine wpAnyH_ready (rs := [4, 7]) (by kernel_rfl) (by simp) ?_
            refine AllReadyH.cons (o := { dst := some 55, op := Op.load 81 (Operand.tmp 54), type := 81, pos := "cache.go:64", after := #[{ on := 3, ground := Ground.data }], guard := none }) rfl (fun K hK => ?_) ?_
            · have pc : W8.cell? ⟨g, 4, none⟩ = some (.slice z1 z2 z3) := (HX8.out.below hIW).cells.2.2.2.2.1
              go_simp
              go_wp2_with fail
              refine hK.out _ _ (hS8.out _ hIW) (fun hHeld => ?_)
              clear hK K pc
              try simp only [Act.put, List.setIfInBounds_toArray, List.set_cons_zero, List.set_cons_succ]
              refine wpAnyH_ready (rs := [7]) (by kernel_rfl) (by simp) ?_
              refine AllReadyH.cons (o := { dst := some 58, op := Op.call { callee := Callee.value (Operand.func 38), args := #[Operand.tmp 56, Operand.tmp 57], argTypes := #[24, 27] }, type := 24, pos := "cache.go:65", after := #[{ on := 5, ground := Ground.data }, { on := 6, ground := Ground.data }], guard := none }) rfl (fun K hK => ?_) AllReadyH.nil
              go_simp
              refine (HCq.out _ hIW).mono ?_
              rintro e' W8x ⟨⟨u1, u2, u3⟩, rfl, bX, hR1, hN1⟩
              have hW8x : Below w4.heap.size w4 W8x := hIW.trans (bX.mono hIW.size)
              have HUW8x : Hid (R EFd W8x (.slice u1 u2 u3) (Q.filter fun f => inS nm f.n)) := hR1
              have HUn : Hid (∀ k, (Value.slice u1 u2 u3).ownBlock = some k → w.heap.size ≤ k) := fun k hk => Nat.le_trans HBw.out (Nat.le_trans hIW.size (hN1 k hk))
              clear bX hR1 hN1
              unfold rqv
              simp only [sv]
              go_wp2_with fail
              refine hK.out _ _ (hS8.out _ hW8x) (fun hHeld => ?_)
              clear hK K
              try simp only [Act.put, List.setIfInBounds_toArray, List.set_cons_zero, List.set_cons_succ]
              refine wpAnyH_ready (rs := [10]) (by kernel_rfl) (by simp) ?_
              refine AllReadyH.cons (o := { dst := some 61, op := Op.call { callee := Callee.value (Operand.func 39), args := #[Operand.tmp 60], argTypes := #[26] }, type := 26, pos := "cache.go:67", after := #[{ on := 9, ground := Ground.data }, { on := 7, ground := Ground.chain }], guard := none }) rfl (fun K hK => ?_) AllReadyH.nil
              go_simp
              refine (HCr.out _ hW8x).mono ?_
              rintro e' W8xx ⟨⟨v1, v2, v3⟩, rfl, bX, hR1, hN1⟩
              have hW8xx : Below w4.heap.size w4 W8xx := hW8x.trans (bX.mono hW8x.size)
              have HUW8xx : Hid (R EFd W8xx (.slice u1 u2 u3) (Q.filter fun f => inS nm f.n)) := HUW8x.out.below bX
              have HVW8xx : Hid (R EFd W8xx (.slice v1 v2 v3) fr) := hR1
              have HVn : Hid (∀ k, (Value.slice v1 v2 v3).ownBlock = some k → w.heap.size ≤ k) := fun k hk => Nat.le_trans HBw.out (Nat.le_trans hW8x.size (hN1 k hk))
              clear bX hR1 hN1
              unfold rsv
              simp only [sv]
              go_wp2_with fail
              refine hK.out _ _ (hS8.out _ hW8xx) (fun hHeld => ?_)
              clear hK K
              try simp only [Act.put, List.setIfInBounds_toArray, List.set_cons_zero, List.set_cons_succ]
              refine wpAnyH_take (i := 17) (oi := { dst := some 68, op := Op.build 87 #[(0, Operand.tmp 58), (1, Operand.tmp 59), (2, Operand.tmp 61), (3, Operand.tmp 62), (4, Operand.tmp 63), (5, Operand.tmp 67)], type := 87, pos := "cache.go:64", after := #[{ on := 7, ground := Ground.data }, { on := 8, ground := Ground.data }, { on := 10, ground := Ground.data }, { on := 11, ground := Ground.data }, { on := 12, ground := Ground.data }, { on := 16, ground := Ground.data }], guard := none }) (v := ?vv15) rfl (by kernel_rfl) (by kernel_rfl) (by kernel_rfl) (fun _ _ _ h => h) (Or.inl ⟨by rfl, ?hy15⟩) (by assumption) ?_
              case hy15 => (intro w hSw; (try dsimp only at hSw); go_simp; all_goals with_reducible rfl)
              try simp only [Act.put, List.setIfInBounds_toArray, List.set_cons_zero, List.set_cons_succ]
              refine wpAnyH_ready (rs := [18]) (by kernel_rfl) (by simp) ?_
              refine AllReadyH.cons (o := { dst := some 69, op := Op.buildSlice 81 1 #[(0, Operand.tmp 68)], type := 81, pos := "cache.go:64", after := #[{ on := 17, ground := Ground.data }], guard := none }) rfl (fun K hK => ?_) AllReadyH.nil
              obtain ⟨q8, hq8⟩ : ∃ q, W8xx.heap.size = q := ⟨_, rfl⟩
              obtain ⟨W8xxx, hV0⟩ : ∃ V, W8xx.alloc (.cells #[.string m, .string s, .string a, .string p, .slice u1 u2 u3, .string ⟨#[]⟩, .slice n1 n2 n3, .int .i64 n, .slice v1 v2 v3, .string b, .int .i64 (z : Int), .int .i64 st, .int .i64 c'.ck] 87) = V := ⟨_, rfl⟩
              have b0x : Below W8xx.heap.size W8xx W8xxx := by rw [← hV0]; exact bel1 _ _
              have hW8xxx : Below w4.heap.size w4 W8xxx := hW8xx.trans (b0x.mono hW8xx.size)
              have HUW8xxx : Hid (R EFd W8xxx (.slice u1 u2 u3) (Q.filter fun f => inS nm f.n)) := HUW8xx.out.below b0x
              have HVW8xxx : Hid (R EFd W8xxx (.slice v1 v2 v3) fr) := HVW8xx.out.below b0x
              have HI8 : Hid (In EE W8xxx (.slice (some ⟨q8, 0, none⟩) 1 1) [(⟨⟨m, s, a, p, (u1, u2, u3), ⟨#[]⟩⟩, (n1, n2, n3), n, (v1, v2, v3), b, z, st, c'.ck, Q.filter (fun f => inS nm f.n), nm, fr⟩ : En)]) := by rw [← hV0, ← hq8]; exact in_one (E := EE) _ _ (⟨⟨m, s, a, p, (u1, u2, u3), ⟨#[]⟩⟩, (n1, n2, n3), n, (v1, v2, v3), b, z, st, c'.ck, Q.filter (fun f => inS nm f.n), nm, fr⟩ : En) #[.string m, .string s, .string a, .string p, .slice u1 u2 u3, .string ⟨#[]⟩, .slice n1 n2 n3, .int .i64 n, .slice v1 v2 v3, .string b, .int .i64 (z : Int), .int .i64 st, .int .i64 c'.ck] 87 (0, 0) (by rw [heap_al, if_pos rfl]) rfl
              clear b0x
              go_simp
              go_wp2_with fail
              try rw [hV0]
              try rw [hq8]
              refine hK.out _ _ (hS8.out _ hW8xxx) (fun hHeld => ?_)
              clear hK K hV0 hq8
              try simp only [Act.put, List.setIfInBounds_toArray, List.set_cons_zero, List.set_cons_succ]
              refine wpAnyH_ready (rs := [19]) (by kernel_rfl) (by simp) ?_
              refine AllReadyH.cons (o := { dst := some 70, op := Op.call { callee := Callee.builtin Builtin.append, args := #[Operand.tmp 55, Operand.tmp 69], argTypes := #[81, 81] }, type := 81, pos := "cache.go:64", after := #[{ on := 4, ground := Ground.data }, { on := 18, ground := Ground.data }, { on := 10, ground := Ground.chain }], guard := none }) rfl (fun K hK => ?_) AllReadyH.nil
              have hXV := HX8.out.below hW8xxx
              obtain ⟨b2, c2, w2, hrun, hR2, hG2⟩ := Go.Proofs.YtfponcdhaefkdaaDoor.app okE W8xxx (.slice z1 z2 z3) M hXV.row (.slice (some ⟨q8, 0, none⟩) 1 1) [(⟨⟨m, s, a, p, (u1, u2, u3), ⟨#[]⟩⟩, (n1, n2, n3), n, (v1, v2, v3), b, z, st, c'.ck, Q.filter (fun f => inS nm f.n), nm, fr⟩ : En)] HI8.out (by have := HM64.out; simp only [EE, List.length_singleton]; omega)
              have el : M.length + [(⟨⟨m, s, a, p, (u1, u2, u3), ⟨#[]⟩⟩, (n1, n2, n3), n, (v1, v2, v3), b, z, st, c'.ck, Q.filter (fun f => inS nm f.n), nm, fr⟩ : En)].length = z2 + 1 := by rw [HZ2.out]; rfl
              rw [el] at hrun hR2 hG2
              have HP := Cx.push (w := w) (z := (b2, z2 + 1, c2)) hXV (⟨⟨m, s, a, p, (u1, u2, u3), ⟨#[]⟩⟩, (n1, n2, n3), n, (v1, v2, v3), b, z, st, c'.ck, Q.filter (fun f => inS nm f.n), nm, fr⟩ : En) ⟨HUW8xxx.out, HNr.out.below hW8xxx, HVW8xxx.out⟩ (fun k hk => by
                rcases hk with hk | hk | hk
                · exact HUn.out k hk
                · exact HNn.out k hk
                · exact HVn.out k hk) (fun k hk => HLtM.out k (.inr hk)) (hXV.ok.push _ HLk.out rfl HFq.out) hR2 hG2
              have hown : ∀ k, w.heap.size ≤ k → (Value.slice z1 z2 z3).ownBlock ≠ some k := fun k hk e => by have := HLtM.out k (.inl (.inr (by rw [← HZy.out]; exact e))); omega
              have HSn : Hid ((fun V => V.cell? ⟨qb, 0, none⟩ = some (.string m) ∧ V.cell? ⟨qb, 1, none⟩ = some (.string s) ∧ V.cell? ⟨qb, 2, none⟩ = some (.string a) ∧ V.cell? ⟨qb, 3, none⟩ = some (.string p) ∧ V.cell? ⟨qb, 4, none⟩ = some (.slice q1 q2 q3) ∧ V.cell? ⟨qb, 5, none⟩ = some (.string b0) ∧ V.cell? ⟨rb, 0, none⟩ = some (.int .i64 n) ∧ V.cell? ⟨rb, 1, none⟩ = some (.slice r1 r2 r3) ∧ V.cell? ⟨rb, 2, none⟩ = some (.string b) ∧ V.cell? ⟨g, 3, none⟩ = some (.int .i64 c'.ck)) w2) := by
                have hq := hS8.out _ hW8xxx
                have e1 : w2.heap[qb]? = W8xxx.heap[qb]? := hG2.block qb (Nat.lt_of_lt_of_le HQl.out.1 hW8xxx.size) (hown _ HQl.out.2.2.1)
                have e2 : w2.heap[rb]? = W8xxx.heap[rb]? := hG2.block rb (Nat.lt_of_lt_of_le HQl.out.2.1 hW8xxx.size) (hown _ HQl.out.2.2.2)
                have e3 : w2.heap[g]? = W8xxx.heap[g]? := hG2.block g (heap_lt hXV.blk) hXV.gy
                exact ⟨(cell_eq e1).trans hq.1, (cell_eq e1).trans hq.2.1, (cell_eq e1).trans hq.2.2.1, (cell_eq e1).trans hq.2.2.2.1, (cell_eq e1).trans hq.2.2.2.2.1, (cell_eq e1).trans hq.2.2.2.2.2.1, (cell_eq e2).trans hq.2.2.2.2.2.2.1, (cell_eq e2).trans hq.2.2.2.2.2.2.2.1, (cell_eq e2).trans hq.2.2.2.2.2.2.2.2.1, (cell_eq e3).trans hq.2.2.2.2.2.2.2.2.2⟩
              have HKs : Hid (Ks (Ow g y) w w2) := (HKs8.out.bel hW8xxx).trans (Ks.of_gr hG2) (fun i _ hi => hi) (fun i _ hi => .inr (by rw [← HZy.out]; exact hi))
              have HZo : Hid (∀ k, (Value.slice b2 (z2 + 1) c2).ownBlock = some k → (sv y).ownBlock = some k ∨ w.heap.size ≤ k) := fun k hk => by
                rcases hG2.own k hk with e | e
                · exact .inl (by rw [← HZy.out]; exact e)
                · exact .inr (Nat.le_trans HBw.out (Nat.le_trans hW8xxx.size e))
              have HGo : Hid (R EI w2 (.slice gb gl gc) D) := (HGn.out.below hW8xxx).stays fun k hk hl => hG2.block k hl (hown k (HGw.out k hk))
              clear hown hXV hR2 hG2 el
              refine step_append_run rfl (.tmp 55) (.tmp 69) 81 81 rfl hrun (by first | rfl | simp [Act.eval, Act.put]) (by first | rfl | simp [Act.eval, Act.put]) ?_
              refine hK.out _ _ HSn.out (fun hHeld => ?_)
              clear hK K hrun
              try simp only [Act.put, List.setIfInBounds_toArray, List.set_cons_zero, List.set_cons_succ]
              refine wpAnyH_take (i := 20) (oi := { dst := some 71, op := Op.nilCheck (Operand.tmp 51), type := 0, pos := "cache.go:64", after := #[{ on := 0, ground := Ground.data }, { on := 0, ground := Ground.phase }, { on := 1, ground := Ground.phase }, { on := 2, ground := Ground.phase }, { on := 3, ground := Ground.phase }, { on := 4, ground := Ground.phase }, { on := 5, ground := Ground.phase }, { on := 6, ground := Ground.phase }, { on := 7, ground := Ground.phase }, { on := 8, ground := Ground.phase }, { on := 9, ground := Ground.phase }, { on := 10, ground := Ground.phase }, { on := 11, ground := Ground.phase }, { on := 12, ground := Ground.phase }, { on := 13, ground := Ground.phase }, { on := 14, ground := Ground.phase }, { on := 15, ground := Ground.phase }, { on := 16, ground := Ground.phase }, { on := 17, ground := Ground.phase }, { on := 18, ground := Ground.phase }, { on := 19, ground := Ground.phase }], guard := none }) (v := ?vv16) rfl (by kernel_rfl) (by kernel_rfl) (by kernel_rfl) (fun _ _ _ h => h) (Or.inl ⟨by rfl, ?hy16⟩) (by assumption) ?_
              case hy16 => (intro w hSw; (try dsimp only at hSw); go_simp; all_goals with_reducible rfl)
              try simp only [Act.put, List.setIfInBounds_toArray, List.set_cons_zero, List.set_cons_succ]
              refine wpAnyH_take (i := 21) (oi := { dst := some 72, op := Op.fieldAddr 83 (Operand.tmp 71) 4, type := 0, pos := "cache.go:64", after := #[{ on := 20, ground := Ground.data }, { on := 0, ground := Ground.phase }, { on := 1, ground := Ground.phase }, { on := 2, ground := Ground.phase }, { on := 3, ground := Ground.phase }, { on := 4, ground := Ground.phase }, { on := 5, ground := Ground.phase }, { on := 6, ground := Ground.phase }, { on := 7, ground := Ground.phase }, { on := 8, ground := Ground.phase }, { on := 9, ground := Ground.phase }, { on := 10, ground := Ground.phase }, { on := 11, ground := Ground.phase }, { on := 12, ground := Ground.phase }, { on := 13, ground := Ground.phase }, { on := 14, ground := Ground.phase }, { on := 15, ground := Ground.phase }, { on := 16, ground := Ground.phase }, { on := 17, ground := Ground.phase }, { on := 18, ground := Ground.phase }, { on := 19, ground := Ground.phase }], guard := none }) (v := ?vv17) rfl (by kernel_rfl) (by kernel_rfl) (by kernel_rfl) (fun _ _ _ h => h) (Or.inl ⟨by rfl, ?hy17⟩) (by assumption) ?_
              case hy17 => (intro w hSw; (try dsimp only at hSw); go_simp; all_goals with_reducible rfl)
              try simp only [Act.put, List.setIfInBounds_toArray, List.set_cons_zero, List.set_cons_succ]
              refine wpAnyH_ready (rs := [22]) (by kernel_rfl) (by simp) ?_
              refine AllReadyH.cons (o := { dst := none, op := Op.store 81 (Operand.tmp 72) (Operand.tmp 70), type := 0, pos := "cache.go:64", after := #[{ on := 21, ground := Ground.data }, { on := 19, ground := Ground.data }, { on := 19, ground := Ground.chain }, { on := 0, ground := Ground.phase }, { on := 1, ground := Ground.phase }, { on := 2, ground := Ground.phase }, { on := 3, ground := Ground.phase }, { on := 4, ground := Ground.phase }, { on := 5, ground := Ground.phase }, { on := 6, ground := Ground.phase }, { on := 7, ground := Ground.phase }, { on := 8, ground := Ground.phase }, { on := 9, ground := Ground.phase }, { on := 10, ground := Ground.phase }, { on := 11, ground := Ground.phase }, { on := 12, ground := Ground.phase }, { on := 13, ground := Ground.phase }, { on := 14, ground := Ground.phase }, { on := 15, ground := Ground.phase }, { on := 16, ground := Ground.phase }, { on := 17, ground := Ground.phase }, { on := 18, ground := Ground.phase }, { on := 19, ground := Ground.phase }], guard := none }) rfl (fun K hK => ?_) AllReadyH.nil
              obtain ⟨E8, hE8⟩ : ∃ E, w2.setCell ⟨g, 4, none⟩ (.slice b2 (z2 + 1) c2) = E := ⟨_, rfl⟩
              have hP1 := HP.1
              have hP2 := HP.2
              simp only [sv] at hP1
              rw [hE8] at hP1
              have HSe : Hid ((fun V => V.cell? ⟨qb, 0, none⟩ = some (.string m) ∧ V.cell? ⟨qb, 1, none⟩ = some (.string s) ∧ V.cell? ⟨qb, 2, none⟩ = some (.string a) ∧ V.cell? ⟨qb, 3, none⟩ = some (.string p) ∧ V.cell? ⟨qb, 4, none⟩ = some (.slice q1 q2 q3) ∧ V.cell? ⟨qb, 5, none⟩ = some (.string b0) ∧ V.cell? ⟨rb, 0, none⟩ = some (.int .i64 n) ∧ V.cell? ⟨rb, 1, none⟩ = some (.slice r1 r2 r3) ∧ V.cell? ⟨rb, 2, none⟩ = some (.string b) ∧ V.cell? ⟨g, 3, none⟩ = some (.int .i64 c'.ck)) E8) := by
                have hq := HSn.out
                have hge : w.heap.size ≤ qb ∧ w.heap.size ≤ rb := HQl.out.2.2
                have hgl : g < w.heap.size := HLtM.out g (.inl (.inl rfl))
                have e1 : E8.heap[qb]? = w2.heap[qb]? := by rw [← hE8]; exact setCell_other _ _ _ _ _ (by omega)
                have e2 : E8.heap[rb]? = w2.heap[rb]? := by rw [← hE8]; exact setCell_other _ _ _ _ _ (by omega)
                exact ⟨(cell_eq e1).trans hq.1, (cell_eq e1).trans hq.2.1, (cell_eq e1).trans hq.2.2.1, (cell_eq e1).trans hq.2.2.2.1, (cell_eq e1).trans hq.2.2.2.2.1, (cell_eq e1).trans hq.2.2.2.2.2.1, (cell_eq e2).trans hq.2.2.2.2.2.2.1, (cell_eq e2).trans hq.2.2.2.2.2.2.2.1, (cell_eq e2).trans hq.2.2.2.2.2.2.2.2.1, hP1.cells.2.2.2.1⟩
              have HE : Hid (stP w g c' y L ⟨m, s, a, p, (q1, q2, q3), b0⟩ Q n b fr st (.returned (.tuple #[.bool true, .slice gb gl gc])) E8) := by
                refine .inr ⟨HNo.out, (gb, gl, gc), (u1, u2, u3), (n1, n2, n3), (v1, v2, v3), (b2, z2 + 1, c2), rfl, ?_, HZo.out, ?_, ?_, HGw.out, ?_⟩
                · have := hP1
                  rw [(HEvA.out u1 u2 u3 v1 v2 v3).1] at this
                  exact this
                · rw [← hE8]
                  exact HKs.out.trans (Ks.setCell (fun k => k = g) w2 g 4 _ rfl) (fun i _ hi => hi) (fun i _ hi => .inl hi)
                · rw [← hE8, ← (HEvA.out u1 u2 u3 v1 v2 v3).2]
                  exact HGo.out.stays fun k hk _ => setCell_other _ _ _ _ _ (fun e => by have h1 := HGw.out k hk; have h2 := HLtM.out g (.inl (.inl rfl)); omega)
                · intro k hk
                  rcases hk with hk | hk | hk
                  · exact HUn.out k hk
                  · exact HNn.out k hk
                  · exact HVn.out k hk
              have po := cell_blk hP2 4
              have pz := frozen_blk hP2 4
              simp only [cav, List.getElem?_toArray, List.getElem?_cons_succ, List.getElem?_cons_zero, sv] at po
              clear HP hP1 hP2
              go_simp
              go_wp2_with fail
              try rw [hE8]
              refine hK.out _ _ HSe.out (fun hHeld => ?_)
              clear hK K po pz hE8 HSn
              try simp only [Act.put, List.setIfInBounds_toArray, List.set_cons_zero, List.set_cons_succ]
              refine wpAnyH_done (by kernel_rfl) ?_ _
              go_wp2_with fail
              go_ret2
              exact HE.out
            refine AllReadyH.cons (o := { dst := some 58, op := Op.call { callee := Callee.value (Operand.func 38), args := #[Operand.tmp 56, Operand.tmp 57], argTypes := #[24, 27] }, type := 24, pos := "cache.go:65", after := #[{ on := 5, ground := Ground.data }, { on := 6, ground := Ground.data }], guard := none }) rfl (fun K hK => ?_) AllReadyH.nil
            go_simp
            refine (HCq.out _ hIW).mono ?_
            rintro e' W8x ⟨⟨u1, u2, u3⟩, rfl, bX, hR1, hN1⟩
            have hW8x : Below w4.heap.size w4 W8x := hIW.trans (bX.mono hIW.size)
            have HUW8x : Hid (R EFd W8x (.slice u1 u2 u3) (Q.filter fun f => inS nm f.n)) := hR1
            have HUn : Hid (∀ k, (Value.slice u1 u2 u3).ownBlock = some k → w.heap.size ≤ k) := fun k hk => Nat.le_trans HBw.out (Nat.le_trans hIW.size (hN1 k hk))
            clear bX hR1 hN1
            unfold rqv
            simp only [sv]
            go_wp2_with fail
            refine hK.out _ _ (hS8.out _ hW8x) (fun hHeld => ?_)
            clear hK K
            try simp only [Act.put, List.setIfInBounds_toArray, List.set_cons_zero, List.set_cons_succ]
            refine wpAnyH_ready (rs := [4, 10]) (by kernel_rfl) (by simp) ?_
            refine AllReadyH.cons (o := { dst := some 55, op := Op.load 81 (Operand.tmp 54), type := 81, pos := "cache.go:64", after := #[{ on := 3, ground := Ground.data }], guard := none }) rfl (fun K hK => ?_) ?_
            · have pc : W8x.cell? ⟨g, 4, none⟩ = some (.slice z1 z2 z3) := (HX8.out.below hW8x).cells.2.2.2.2.1
              go_simp
              go_wp2_with fail
              refine hK.out _ _ (hS8.out _ hW8x) (fun hHeld => ?_)
              clear hK K pc
              try simp only [Act.put, List.setIfInBounds_toArray, List.set_cons_zero, List.set_cons_succ]
              refine wpAnyH_ready (rs := [10]) (by kernel_rfl) (by simp) ?_
              refine AllReadyH.cons (o := { dst := some 61, op := Op.call { callee := Callee.value (Operand.func 39), args := #[Operand.tmp 60], argTypes := #[26] }, type := 26, pos := "cache.go:67", after := #[{ on := 9, ground := Ground.data }, { on := 7, ground := Ground.chain }], guard := none }) rfl (fun K hK => ?_) AllReadyH.nil
              go_simp
              refine (HCr.out _ hW8x).mono ?_
              rintro e' W8xx ⟨⟨v1, v2, v3⟩, rfl, bX, hR1, hN1⟩
              have hW8xx : Below w4.heap.size w4 W8xx := hW8x.trans (bX.mono hW8x.size)
              have HUW8xx : Hid (R EFd W8xx (.slice u1 u2 u3) (Q.filter fun f => inS nm f.n)) := HUW8x.out.below bX
              have HVW8xx : Hid (R EFd W8xx (.slice v1 v2 v3) fr) := hR1
              have HVn : Hid (∀ k, (Value.slice v1 v2 v3).ownBlock = some k → w.heap.size ≤ k) := fun k hk => Nat.le_trans HBw.out (Nat.le_trans hW8x.size (hN1 k hk))
              clear bX hR1 hN1
              unfold rsv
              simp only [sv]
              go_wp2_with fail
              refine hK.out _ _ (hS8.out _ hW8xx) (fun hHeld => ?_)
              clear hK K
              try simp only [Act.put, List.setIfInBounds_toArray, List.set_cons_zero, List.set_cons_succ]
              refine wpAnyH_take (i := 17) (oi := { dst := some 68, op := Op.build 87 #[(0, Operand.tmp 58), (1, Operand.tmp 59), (2, Operand.tmp 61), (3, Operand.tmp 62), (4, Operand.tmp 63), (5, Operand.tmp 67)], type := 87, pos := "cache.go:64", after := #[{ on := 7, ground := Ground.data }, { on := 8, ground := Ground.data }, { on := 10, ground := Ground.data }, { on := 11, ground := Ground.data }, { on := 12, ground := Ground.data }, { on := 16, ground := Ground.data }], guard := none }) (v := ?vv18) rfl (by kernel_rfl) (by kernel_rfl) (by kernel_rfl) (fun _ _ _ h => h) (Or.inl ⟨by rfl, ?hy18⟩) (by assumption) ?_
              case hy18 => (intro w hSw; (try dsimp only at hSw); go_simp; all_goals with_reducible rfl)
              try simp only [Act.put, List.setIfInBounds_toArray, List.set_cons_zero, List.set_cons_succ]
              refine wpAnyH_ready (rs := [18]) (by kernel_rfl) (by simp) ?_
              refine AllReadyH.cons (o := { dst := some 69, op := Op.buildSlice 81 1 #[(0, Operand.tmp 68)], type := 81, pos := "cache.go:64", after := #[{ on := 17, ground := Ground.data }], guard := none }) rfl (fun K hK => ?_) AllReadyH.nil
              obtain ⟨q8, hq8⟩ : ∃ q, W8xx.heap.size = q := ⟨_, rfl⟩
              obtain ⟨W8xxx, hV0⟩ : ∃ V, W8xx.alloc (.cells #[.string m, .string s, .string a, .string p, .slice u1 u2 u3, .string ⟨#[]⟩, .slice n1 n2 n3, .int .i64 n, .slice v1 v2 v3, .string b, .int .i64 (z : Int), .int .i64 st, .int .i64 c'.ck] 87) = V := ⟨_, rfl⟩
              have b0x : Below W8xx.heap.size W8xx W8xxx := by rw [← hV0]; exact bel1 _ _
              have hW8xxx : Below w4.heap.size w4 W8xxx := hW8xx.trans (b0x.mono hW8xx.size)
              have HUW8xxx : Hid (R EFd W8xxx (.slice u1 u2 u3) (Q.filter fun f => inS nm f.n)) := HUW8xx.out.below b0x
              have HVW8xxx : Hid (R EFd W8xxx (.slice v1 v2 v3) fr) := HVW8xx.out.below b0x
              have HI8 : Hid (In EE W8xxx (.slice (some ⟨q8, 0, none⟩) 1 1) [(⟨⟨m, s, a, p, (u1, u2, u3), ⟨#[]⟩⟩, (n1, n2, n3), n, (v1, v2, v3), b, z, st, c'.ck, Q.filter (fun f => inS nm f.n), nm, fr⟩ : En)]) := by rw [← hV0, ← hq8]; exact in_one (E := EE) _ _ (⟨⟨m, s, a, p, (u1, u2, u3), ⟨#[]⟩⟩, (n1, n2, n3), n, (v1, v2, v3), b, z, st, c'.ck, Q.filter (fun f => inS nm f.n), nm, fr⟩ : En) #[.string m, .string s, .string a, .string p, .slice u1 u2 u3, .string ⟨#[]⟩, .slice n1 n2 n3, .int .i64 n, .slice v1 v2 v3, .string b, .int .i64 (z : Int), .int .i64 st, .int .i64 c'.ck] 87 (0, 0) (by rw [heap_al, if_pos rfl]) rfl
              clear b0x
              go_simp
              go_wp2_with fail
              try rw [hV0]
              try rw [hq8]
              refine hK.out _ _ (hS8.out _ hW8xxx) (fun hHeld => ?_)
              clear hK K hV0 hq8
              try simp only [Act.put, List.setIfInBounds_toArray, List.set_cons_zero, List.set_cons_succ]
              refine wpAnyH_ready (rs := [19]) (by kernel_rfl) (by simp) ?_
              refine AllReadyH.cons (o := { dst := some 70, op := Op.call { callee := Callee.builtin Builtin.append, args := #[Operand.tmp 55, Operand.tmp 69], argTypes := #[81, 81] }, type := 81, pos := "cache.go:64", after := #[{ on := 4, ground := Ground.data }, { on := 18, ground := Ground.data }, { on := 10, ground := Ground.chain }], guard := none }) rfl (fun K hK => ?_) AllReadyH.nil
              have hXV := HX8.out.below hW8xxx
              obtain ⟨b2, c2, w2, hrun, hR2, hG2⟩ := Go.Proofs.YtfponcdhaefkdaaDoor.app okE W8xxx (.slice z1 z2 z3) M hXV.row (.slice (some ⟨q8, 0, none⟩) 1 1) [(⟨⟨m, s, a, p, (u1, u2, u3), ⟨#[]⟩⟩, (n1, n2, n3), n, (v1, v2, v3), b, z, st, c'.ck, Q.filter (fun f => inS nm f.n), nm, fr⟩ : En)] HI8.out (by have := HM64.out; simp only [EE, List.length_singleton]; omega)
              have el : M.length + [(⟨⟨m, s, a, p, (u1, u2, u3), ⟨#[]⟩⟩, (n1, n2, n3), n, (v1, v2, v3), b, z, st, c'.ck, Q.filter (fun f => inS nm f.n), nm, fr⟩ : En)].length = z2 + 1 := by rw [HZ2.out]; rfl
              rw [el] at hrun hR2 hG2
              have HP := Cx.push (w := w) (z := (b2, z2 + 1, c2)) hXV (⟨⟨m, s, a, p, (u1, u2, u3), ⟨#[]⟩⟩, (n1, n2, n3), n, (v1, v2, v3), b, z, st, c'.ck, Q.filter (fun f => inS nm f.n), nm, fr⟩ : En) ⟨HUW8xxx.out, HNr.out.below hW8xxx, HVW8xxx.out⟩ (fun k hk => by
                rcases hk with hk | hk | hk
                · exact HUn.out k hk
                · exact HNn.out k hk
                · exact HVn.out k hk) (fun k hk => HLtM.out k (.inr hk)) (hXV.ok.push _ HLk.out rfl HFq.out) hR2 hG2
              have hown : ∀ k, w.heap.size ≤ k → (Value.slice z1 z2 z3).ownBlock ≠ some k := fun k hk e => by have := HLtM.out k (.inl (.inr (by rw [← HZy.out]; exact e))); omega
              have HSn : Hid ((fun V => V.cell? ⟨qb, 0, none⟩ = some (.string m) ∧ V.cell? ⟨qb, 1, none⟩ = some (.string s) ∧ V.cell? ⟨qb, 2, none⟩ = some (.string a) ∧ V.cell? ⟨qb, 3, none⟩ = some (.string p) ∧ V.cell? ⟨qb, 4, none⟩ = some (.slice q1 q2 q3) ∧ V.cell? ⟨qb, 5, none⟩ = some (.string b0) ∧ V.cell? ⟨rb, 0, none⟩ = some (.int .i64 n) ∧ V.cell? ⟨rb, 1, none⟩ = some (.slice r1 r2 r3) ∧ V.cell? ⟨rb, 2, none⟩ = some (.string b) ∧ V.cell? ⟨g, 3, none⟩ = some (.int .i64 c'.ck)) w2) := by
                have hq := hS8.out _ hW8xxx
                have e1 : w2.heap[qb]? = W8xxx.heap[qb]? := hG2.block qb (Nat.lt_of_lt_of_le HQl.out.1 hW8xxx.size) (hown _ HQl.out.2.2.1)
                have e2 : w2.heap[rb]? = W8xxx.heap[rb]? := hG2.block rb (Nat.lt_of_lt_of_le HQl.out.2.1 hW8xxx.size) (hown _ HQl.out.2.2.2)
                have e3 : w2.heap[g]? = W8xxx.heap[g]? := hG2.block g (heap_lt hXV.blk) hXV.gy
                exact ⟨(cell_eq e1).trans hq.1, (cell_eq e1).trans hq.2.1, (cell_eq e1).trans hq.2.2.1, (cell_eq e1).trans hq.2.2.2.1, (cell_eq e1).trans hq.2.2.2.2.1, (cell_eq e1).trans hq.2.2.2.2.2.1, (cell_eq e2).trans hq.2.2.2.2.2.2.1, (cell_eq e2).trans hq.2.2.2.2.2.2.2.1, (cell_eq e2).trans hq.2.2.2.2.2.2.2.2.1, (cell_eq e3).trans hq.2.2.2.2.2.2.2.2.2⟩
              have HKs : Hid (Ks (Ow g y) w w2) := (HKs8.out.bel hW8xxx).trans (Ks.of_gr hG2) (fun i _ hi => hi) (fun i _ hi => .inr (by rw [← HZy.out]; exact hi))
              have HZo : Hid (∀ k, (Value.slice b2 (z2 + 1) c2).ownBlock = some k → (sv y).ownBlock = some k ∨ w.heap.size ≤ k) := fun k hk => by
                rcases hG2.own k hk with e | e
                · exact .inl (by rw [← HZy.out]; exact e)
                · exact .inr (Nat.le_trans HBw.out (Nat.le_trans hW8xxx.size e))
              have HGo : Hid (R EI w2 (.slice gb gl gc) D) := (HGn.out.below hW8xxx).stays fun k hk hl => hG2.block k hl (hown k (HGw.out k hk))
              clear hown hXV hR2 hG2 el
              refine step_append_run rfl (.tmp 55) (.tmp 69) 81 81 rfl hrun (by first | rfl | simp [Act.eval, Act.put]) (by first | rfl | simp [Act.eval, Act.put]) ?_
              refine hK.out _ _ HSn.out (fun hHeld => ?_)
              clear hK K hrun
              try simp only [Act.put, List.setIfInBounds_toArray, List.set_cons_zero, List.set_cons_succ]
              refine wpAnyH_take (i := 20) (oi := { dst := some 71, op := Op.nilCheck (Operand.tmp 51), type := 0, pos := "cache.go:64", after := #[{ on := 0, ground := Ground.data }, { on := 0, ground := Ground.phase }, { on := 1, ground := Ground.phase }, { on := 2, ground := Ground.phase }, { on := 3, ground := Ground.phase }, { on := 4, ground := Ground.phase }, { on := 5, ground := Ground.phase }, { on := 6, ground := Ground.phase }, { on := 7, ground := Ground.phase }, { on := 8, ground := Ground.phase }, { on := 9, ground := Ground.phase }, { on := 10, ground := Ground.phase }, { on := 11, ground := Ground.phase }, { on := 12, ground := Ground.phase }, { on := 13, ground := Ground.phase }, { on := 14, ground := Ground.phase }, { on := 15, ground := Ground.phase }, { on := 16, ground := Ground.phase }, { on := 17, ground := Ground.phase }, { on := 18, ground := Ground.phase }, { on := 19, ground := Ground.phase }], guard := none }) (v := ?vv19) rfl (by kernel_rfl) (by kernel_rfl) (by kernel_rfl) (fun _ _ _ h => h) (Or.inl ⟨by rfl, ?hy19⟩) (by assumption) ?_
              case hy19 => (intro w hSw; (try dsimp only at hSw); go_simp; all_goals with_reducible rfl)
              try simp only [Act.put, List.setIfInBounds_toArray, List.set_cons_zero, List.set_cons_succ]
              refine wpAnyH_take (i := 21) (oi := { dst := some 72, op := Op.fieldAddr 83 (Operand.tmp 71) 4, type := 0, pos := "cache.go:64", after := #[{ on := 20, ground := Ground.data }, { on := 0, ground := Ground.phase }, { on := 1, ground := Ground.phase }, { on := 2, ground := Ground.phase }, { on := 3, ground := Ground.phase }, { on := 4, ground := Ground.phase }, { on := 5, ground := Ground.phase }, { on := 6, ground := Ground.phase }, { on := 7, ground := Ground.phase }, { on := 8, ground := Ground.phase }, { on := 9, ground := Ground.phase }, { on := 10, ground := Ground.phase }, { on := 11, ground := Ground.phase }, { on := 12, ground := Ground.phase }, { on := 13, ground := Ground.phase }, { on := 14, ground := Ground.phase }, { on := 15, ground := Ground.phase }, { on := 16, ground := Ground.phase }, { on := 17, ground := Ground.phase }, { on := 18, ground := Ground.phase }, { on := 19, ground := Ground.phase }], guard := none }) (v := ?vv20) rfl (by kernel_rfl) (by kernel_rfl) (by kernel_rfl) (fun _ _ _ h => h) (Or.inl ⟨by rfl, ?hy20⟩) (by assumption) ?_
              case hy20 => (intro w hSw; (try dsimp only at hSw); go_simp; all_goals with_reducible rfl)
              try simp only [Act.put, List.setIfInBounds_toArray, List.set_cons_zero, List.set_cons_succ]
              refine wpAnyH_ready (rs := [22]) (by kernel_rfl) (by simp) ?_
              refine AllReadyH.cons (o := { dst := none, op := Op.store 81 (Operand.tmp 72) (Operand.tmp 70), type := 0, pos := "cache.go:64", after := #[{ on := 21, ground := Ground.data }, { on := 19, ground := Ground.data }, { on := 19, ground := Ground.chain }, { on := 0, ground := Ground.phase }, { on := 1, ground := Ground.phase }, { on := 2, ground := Ground.phase }, { on := 3, ground := Ground.phase }, { on := 4, ground := Ground.phase }, { on := 5, ground := Ground.phase }, { on := 6, ground := Ground.phase }, { on := 7, ground := Ground.phase }, { on := 8, ground := Ground.phase }, { on := 9, ground := Ground.phase }, { on := 10, ground := Ground.phase }, { on := 11, ground := Ground.phase }, { on := 12, ground := Ground.phase }, { on := 13, ground := Ground.phase }, { on := 14, ground := Ground.phase }, { on := 15, ground := Ground.phase }, { on := 16, ground := Ground.phase }, { on := 17, ground := Ground.phase }, { on := 18, ground := Ground.phase }, { on := 19, ground := Ground.phase }], guard := none }) rfl (fun K hK => ?_) AllReadyH.nil
              obtain ⟨E8, hE8⟩ : ∃ E, w2.setCell ⟨g, 4, none⟩ (.slice b2 (z2 + 1) c2) = E := ⟨_, rfl⟩
              have hP1 := HP.1
              have hP2 := HP.2
              simp only [sv] at hP1
              rw [hE8] at hP1
              have HSe : Hid ((fun V => V.cell? ⟨qb, 0, none⟩ = some (.string m) ∧ V.cell? ⟨qb, 1, none⟩ = some (.string s) ∧ V.cell? ⟨qb, 2, none⟩ = some (.string a) ∧ V.cell? ⟨qb, 3, none⟩ = some (.string p) ∧ V.cell? ⟨qb, 4, none⟩ = some (.slice q1 q2 q3) ∧ V.cell? ⟨qb, 5, none⟩ = some (.string b0) ∧ V.cell? ⟨rb, 0, none⟩ = some (.int .i64 n) ∧ V.cell? ⟨rb, 1, none⟩ = some (.slice r1 r2 r3) ∧ V.cell? ⟨rb, 2, none⟩ = some (.string b) ∧ V.cell? ⟨g, 3, none⟩ = some (.int .i64 c'.ck)) E8) := by
                have hq := HSn.out
                have hge : w.heap.size ≤ qb ∧ w.heap.size ≤ rb := HQl.out.2.2
                have hgl : g < w.heap.size := HLtM.out g (.inl (.inl rfl))
                have e1 : E8.heap[qb]? = w2.heap[qb]? := by rw [← hE8]; exact setCell_other _ _ _ _ _ (by omega)
                have e2 : E8.heap[rb]? = w2.heap[rb]? := by rw [← hE8]; exact setCell_other _ _ _ _ _ (by omega)
                exact ⟨(cell_eq e1).trans hq.1, (cell_eq e1).trans hq.2.1, (cell_eq e1).trans hq.2.2.1, (cell_eq e1).trans hq.2.2.2.1, (cell_eq e1).trans hq.2.2.2.2.1, (cell_eq e1).trans hq.2.2.2.2.2.1, (cell_eq e2).trans hq.2.2.2.2.2.2.1, (cell_eq e2).trans hq.2.2.2.2.2.2.2.1, (cell_eq e2).trans hq.2.2.2.2.2.2.2.2.1, hP1.cells.2.2.2.1⟩
              have HE : Hid (stP w g c' y L ⟨m, s, a, p, (q1, q2, q3), b0⟩ Q n b fr st (.returned (.tuple #[.bool true, .slice gb gl gc])) E8) := by
                refine .inr ⟨HNo.out, (gb, gl, gc), (u1, u2, u3), (n1, n2, n3), (v1, v2, v3), (b2, z2 + 1, c2), rfl, ?_, HZo.out, ?_, ?_, HGw.out, ?_⟩
                · have := hP1
                  rw [(HEvA.out u1 u2 u3 v1 v2 v3).1] at this
                  exact this
                · rw [← hE8]
                  exact HKs.out.trans (Ks.setCell (fun k => k = g) w2 g 4 _ rfl) (fun i _ hi => hi) (fun i _ hi => .inl hi)
                · rw [← hE8, ← (HEvA.out u1 u2 u3 v1 v2 v3).2]
                  exact HGo.out.stays fun k hk _ => setCell_other _ _ _ _ _ (fun e => by have h1 := HGw.out k hk; have h2 := HLtM.out g (.inl (.inl rfl)); omega)
                · intro k hk
                  rcases hk with hk | hk | hk
                  · exact HUn.out k hk
                  · exact HNn.out k hk
                  · exact HVn.out k hk
              have po := cell_blk hP2 4
              have pz := frozen_blk hP2 4
              simp only [cav, List.getElem?_toArray, List.getElem?_cons_succ, List.getElem?_cons_zero, sv] at po
              clear HP hP1 hP2
              go_simp
              go_wp2_with fail
              try rw [hE8]
              refine hK.out _ _ HSe.out (fun hHeld => ?_)
              clear hK K po pz hE8 HSn
              try simp only [Act.put, List.setIfInBounds_toArray, List.set_cons_zero, List.set_cons_succ]
              refine wpAnyH_done (by kernel_rfl) ?_ _
              go_wp2_with fail
              go_ret2
              exact HE.out
            refine AllReadyH.cons (o := { dst := some 61, op := Op.call { callee := Callee.value (Operand.func 39), args := #[Operand.tmp 60], argTypes := #[26] }, type := 26, pos := "cache.go:67", after := #[{ on := 9, ground := Ground.data }, { on := 7, ground := Ground.chain }], guard := none }) rfl (fun K hK => ?_) AllReadyH.nil
            go_simp
            refine (HCr.out _ hW8x).mono ?_
            rintro e' W8xx ⟨⟨v1, v2, v3⟩, rfl, bX, hR1, hN1⟩
            have hW8xx : Below w4.heap.size w4 W8xx := hW8x.trans (bX.mono hW8x.size)
            have HUW8xx : Hid (R EFd W8xx (.slice u1 u2 u3) (Q.filter fun f => inS nm f.n)) := HUW8x.out.below bX
            have HVW8xx : Hid (R EFd W8xx (.slice v1 v2 v3) fr) := hR1
            have HVn : Hid (∀ k, (Value.slice v1 v2 v3).ownBlock = some k → w.heap.size ≤ k) := fun k hk => Nat.le_trans HBw.out (Nat.le_trans hW8x.size (hN1 k hk))
            clear bX hR1 hN1
            unfold rsv
            simp only [sv]
            go_wp2_with fail
            refine hK.out _ _ (hS8.out _ hW8xx) (fun hHeld => ?_)
            clear hK K
            try simp only [Act.put, List.setIfInBounds_toArray, List.set_cons_zero, List.set_cons_succ]
            refine wpAnyH_take (i := 17) (oi := { dst := some 68, op := Op.build 87 #[(0, Operand.tmp 58), (1, Operand.tmp 59), (2, Operand.tmp 61), (3, Operand.tmp 62), (4, Operand.tmp 63), (5, Operand.tmp 67)], type := 87, pos := "cache.go:64", after := #[{ on := 7, ground := Ground.data }, { on := 8, ground := Ground.data }, { on := 10, ground := Ground.data }, { on := 11, ground := Ground.data }, { on := 12, ground := Ground.data }, { on := 16, ground := Ground.data }], guard := none }) (v := ?vv21) rfl (by kernel_rfl) (by kernel_rfl) (by kernel_rfl) (fun _ _ _ h => h) (Or.inl ⟨by rfl, ?hy21⟩) (by assumption) ?_
            case hy21 => (intro w hSw; (try dsimp only at hSw); go_simp; all_goals with_reducible rfl)
            try simp only [Act.put, List.setIfInBounds_toArray, List.set_cons_zero, List.set_cons_succ]
            refine wpAnyH_ready (rs := [4, 18]) (by kernel_rfl) (by simp) ?_
            refine AllReadyH.cons (o := { dst := some 55, op := Op.load 81 (Operand.tmp 54), type := 81, pos := "cache.go:64", after := #[{ on := 3, ground := Ground.data }], guard := none }) rfl (fun K hK => ?_) ?_
            · have pc : W8xx.cell? ⟨g, 4, none⟩ = some (.slice z1 z2 z3) := (HX8.out.below hW8xx).cells.2.2.2.2.1
              go_simp
              go_wp2_with fail
              refine hK.out _ _ (hS8.out _ hW8xx) (fun hHeld => ?_)
              clear hK K pc
              try simp only [Act.put, List.setIfInBounds_toArray, List.set_cons_zero, List.set_cons_succ]
              refine wpAnyH_ready (rs := [18]) (by kernel_rfl) (by simp) ?_
              refine AllReadyH.cons (o := { dst := some 69, op := Op.buildSlice 81 1 #[(0, Operand.tmp 68)], type := 81, pos := "cache.go:64", after := #[{ on := 17, ground := Ground.data }], guard := none }) rfl (fun K hK => ?_) AllReadyH.nil
              obtain ⟨q8, hq8⟩ : ∃ q, W8xx.heap.size = q := ⟨_, rfl⟩
              obtain ⟨W8xxx, hV0⟩ : ∃ V, W8xx.alloc (.cells #[.string m, .string s, .string a, .string p, .slice u1 u2 u3, .string ⟨#[]⟩, .slice n1 n2 n3, .int .i64 n, .slice v1 v2 v3, .string b, .int .i64 (z : Int), .int .i64 st, .int .i64 c'.ck] 87) = V := ⟨_, rfl⟩
              have b0x : Below W8xx.heap.size W8xx W8xxx := by rw [← hV0]; exact bel1 _ _
              have hW8xxx : Below w4.heap.size w4 W8xxx := hW8xx.trans (b0x.mono hW8xx.size)
              have HUW8xxx : Hid (R EFd W8xxx (.slice u1 u2 u3) (Q.filter fun f => inS nm f.n)) := HUW8xx.out.below b0x
              have HVW8xxx : Hid (R EFd W8xxx (.slice v1 v2 v3) fr) := HVW8xx.out.below b0x
              have HI8 : Hid (In EE W8xxx (.slice (some ⟨q8, 0, none⟩) 1 1) [(⟨⟨m, s, a, p, (u1, u2, u3), ⟨#[]⟩⟩, (n1, n2, n3), n, (v1, v2, v3), b, z, st, c'.ck, Q.filter (fun f => inS nm f.n), nm, fr⟩ : En)]) := by rw [← hV0, ← hq8]; exact in_one (E := EE) _ _ (⟨⟨m, s, a, p, (u1, u2, u3), ⟨#[]⟩⟩, (n1, n2, n3), n, (v1, v2, v3), b, z, st, c'.ck, Q.filter (fun f => inS nm f.n), nm, fr⟩ : En) #[.string m, .string s, .string a, .string p, .slice u1 u2 u3, .string ⟨#[]⟩, .slice n1 n2 n3, .int .i64 n, .slice v1 v2 v3, .string b, .int .i64 (z : Int), .int .i64 st, .int .i64 c'.ck] 87 (0, 0) (by rw [heap_al, if_pos rfl]) rfl
              clear b0x
              go_simp
              go_wp2_with fail
              try rw [hV0]
              try rw [hq8]
              refine hK.out _ _ (hS8.out _ hW8xxx) (fun hHeld => ?_)
              clear hK K hV0 hq8
              try simp only [Act.put, List.setIfInBounds_toArray, List.set_cons_zero, List.set_cons_succ]
              refine wpAnyH_ready (rs := [19]) (by kernel_rfl) (by simp) ?_
              refine AllReadyH.cons (o := { dst := some 70, op := Op.call { callee := Callee.builtin Builtin.append, args := #[Operand.tmp 55, Operand.tmp 69], argTypes := #[81, 81] }, type := 81, pos := "cache.go:64", after := #[{ on := 4, ground := Ground.data }, { on := 18, ground := Ground.data }, { on := 10, ground := Ground.chain }], guard := none }) rfl (fun K hK => ?_) AllReadyH.nil
              have hXV := HX8.out.below hW8xxx
              obtain ⟨b2, c2, w2, hrun, hR2, hG2⟩ := Go.Proofs.YtfponcdhaefkdaaDoor.app okE W8xxx (.slice z1 z2 z3) M hXV.row (.slice (some ⟨q8, 0, none⟩) 1 1) [(⟨⟨m, s, a, p, (u1, u2, u3), ⟨#[]⟩⟩, (n1, n2, n3), n, (v1, v2, v3), b, z, st, c'.ck, Q.filter (fun f => inS nm f.n), nm, fr⟩ : En)] HI8.out (by have := HM64.out; simp only [EE, List.length_singleton]; omega)
              have el : M.length + [(⟨⟨m, s, a, p, (u1, u2, u3), ⟨#[]⟩⟩, (n1, n2, n3), n, (v1, v2, v3), b, z, st, c'.ck, Q.filter (fun f => inS nm f.n), nm, fr⟩ : En)].length = z2 + 1 := by rw [HZ2.out]; rfl
              rw [el] at hrun hR2 hG2
              have HP := Cx.push (w := w) (z := (b2, z2 + 1, c2)) hXV (⟨⟨m, s, a, p, (u1, u2, u3), ⟨#[]⟩⟩, (n1, n2, n3), n, (v1, v2, v3), b, z, st, c'.ck, Q.filter (fun f => inS nm f.n), nm, fr⟩ : En) ⟨HUW8xxx.out, HNr.out.below hW8xxx, HVW8xxx.out⟩ (fun k hk => by
                rcases hk with hk | hk | hk
                · exact HUn.out k hk
                · exact HNn.out k hk
                · exact HVn.out k hk) (fun k hk => HLtM.out k (.inr hk)) (hXV.ok.push _ HLk.out rfl HFq.out) hR2 hG2
              have hown : ∀ k, w.heap.size ≤ k → (Value.slice z1 z2 z3).ownBlock ≠ some k := fun k hk e => by have := HLtM.out k (.inl (.inr (by rw [← HZy.out]; exact e))); omega
              have HSn : Hid ((fun V => V.cell? ⟨qb, 0, none⟩ = some (.string m) ∧ V.cell? ⟨qb, 1, none⟩ = some (.string s) ∧ V.cell? ⟨qb, 2, none⟩ = some (.string a) ∧ V.cell? ⟨qb, 3, none⟩ = some (.string p) ∧ V.cell? ⟨qb, 4, none⟩ = some (.slice q1 q2 q3) ∧ V.cell? ⟨qb, 5, none⟩ = some (.string b0) ∧ V.cell? ⟨rb, 0, none⟩ = some (.int .i64 n) ∧ V.cell? ⟨rb, 1, none⟩ = some (.slice r1 r2 r3) ∧ V.cell? ⟨rb, 2, none⟩ = some (.string b) ∧ V.cell? ⟨g, 3, none⟩ = some (.int .i64 c'.ck)) w2) := by
                have hq := hS8.out _ hW8xxx
                have e1 : w2.heap[qb]? = W8xxx.heap[qb]? := hG2.block qb (Nat.lt_of_lt_of_le HQl.out.1 hW8xxx.size) (hown _ HQl.out.2.2.1)
                have e2 : w2.heap[rb]? = W8xxx.heap[rb]? := hG2.block rb (Nat.lt_of_lt_of_le HQl.out.2.1 hW8xxx.size) (hown _ HQl.out.2.2.2)
                have e3 : w2.heap[g]? = W8xxx.heap[g]? := hG2.block g (heap_lt hXV.blk) hXV.gy
                exact ⟨(cell_eq e1).trans hq.1, (cell_eq e1).trans hq.2.1, (cell_eq e1).trans hq.2.2.1, (cell_eq e1).trans hq.2.2.2.1, (cell_eq e1).trans hq.2.2.2.2.1, (cell_eq e1).trans hq.2.2.2.2.2.1, (cell_eq e2).trans hq.2.2.2.2.2.2.1, (cell_eq e2).trans hq.2.2.2.2.2.2.2.1, (cell_eq e2).trans hq.2.2.2.2.2.2.2.2.1, (cell_eq e3).trans hq.2.2.2.2.2.2.2.2.2⟩
              have HKs : Hid (Ks (Ow g y) w w2) := (HKs8.out.bel hW8xxx).trans (Ks.of_gr hG2) (fun i _ hi => hi) (fun i _ hi => .inr (by rw [← HZy.out]; exact hi))
              have HZo : Hid (∀ k, (Value.slice b2 (z2 + 1) c2).ownBlock = some k → (sv y).ownBlock = some k ∨ w.heap.size ≤ k) := fun k hk => by
                rcases hG2.own k hk with e | e
                · exact .inl (by rw [← HZy.out]; exact e)
                · exact .inr (Nat.le_trans HBw.out (Nat.le_trans hW8xxx.size e))
              have HGo : Hid (R EI w2 (.slice gb gl gc) D) := (HGn.out.below hW8xxx).stays fun k hk hl => hG2.block k hl (hown k (HGw.out k hk))
              clear hown hXV hR2 hG2 el
              refine step_append_run rfl (.tmp 55) (.tmp 69) 81 81 rfl hrun (by first | rfl | simp [Act.eval, Act.put]) (by first | rfl | simp [Act.eval, Act.put]) ?_
              refine hK.out _ _ HSn.out (fun hHeld => ?_)
              clear hK K hrun
              try simp only [Act.put, List.setIfInBounds_toArray, List.set_cons_zero, List.set_cons_succ]
              refine wpAnyH_take (i := 20) (oi := { dst := some 71, op := Op.nilCheck (Operand.tmp 51), type := 0, pos := "cache.go:64", after := #[{ on := 0, ground := Ground.data }, { on := 0, ground := Ground.phase }, { on := 1, ground := Ground.phase }, { on := 2, ground := Ground.phase }, { on := 3, ground := Ground.phase }, { on := 4, ground := Ground.phase }, { on := 5, ground := Ground.phase }, { on := 6, ground := Ground.phase }, { on := 7, ground := Ground.phase }, { on := 8, ground := Ground.phase }, { on := 9, ground := Ground.phase }, { on := 10, ground := Ground.phase }, { on := 11, ground := Ground.phase }, { on := 12, ground := Ground.phase }, { on := 13, ground := Ground.phase }, { on := 14, ground := Ground.phase }, { on := 15, ground := Ground.phase }, { on := 16, ground := Ground.phase }, { on := 17, ground := Ground.phase }, { on := 18, ground := Ground.phase }, { on := 19, ground := Ground.phase }], guard := none }) (v := ?vv22) rfl (by kernel_rfl) (by kernel_rfl) (by kernel_rfl) (fun _ _ _ h => h) (Or.inl ⟨by rfl, ?hy22⟩) (by assumption) ?_
              case hy22 => (intro w hSw; (try dsimp only at hSw); go_simp; all_goals with_reducible rfl)
              try simp only [Act.put, List.setIfInBounds_toArray, List.set_cons_zero, List.set_cons_succ]
              refine wpAnyH_take (i := 21) (oi := { dst := some 72, op := Op.fieldAddr 83 (Operand.tmp 71) 4, type := 0, pos := "cache.go:64", after := #[{ on := 20, ground := Ground.data }, { on := 0, ground := Ground.phase }, { on := 1, ground := Ground.phase }, { on := 2, ground := Ground.phase }, { on := 3, ground := Ground.phase }, { on := 4, ground := Ground.phase }, { on := 5, ground := Ground.phase }, { on := 6, ground := Ground.phase }, { on := 7, ground := Ground.phase }, { on := 8, ground := Ground.phase }, { on := 9, ground := Ground.phase }, { on := 10, ground := Ground.phase }, { on := 11, ground := Ground.phase }, { on := 12, ground := Ground.phase }, { on := 13, ground := Ground.phase }, { on := 14, ground := Ground.phase }, { on := 15, ground := Ground.phase }, { on := 16, ground := Ground.phase }, { on := 17, ground := Ground.phase }, { on := 18, ground := Ground.phase }, { on := 19, ground := Ground.phase }], guard := none }) (v := ?vv23) rfl (by kernel_rfl) (by kernel_rfl) (by kernel_rfl) (fun _ _ _ h => h) (Or.inl ⟨by rfl, ?hy23⟩) (by assumption) ?_
              case hy23 => (intro w hSw; (try dsimp only at hSw); go_simp; all_goals with_reducible rfl)
              try simp only [Act.put, List.setIfInBounds_toArray, List.set_cons_zero, List.set_cons_succ]
              refine wpAnyH_ready (rs := [22]) (by kernel_rfl) (by simp) ?_
              refine AllReadyH.cons (o := { dst := none, op := Op.store 81 (Operand.tmp 72) (Operand.tmp 70), type := 0, pos := "cache.go:64", after := #[{ on := 21, ground := Ground.data }, { on := 19, ground := Ground.data }, { on := 19, ground := Ground.chain }, { on := 0, ground := Ground.phase }, { on := 1, ground := Ground.phase }, { on := 2, ground := Ground.phase }, { on := 3, ground := Ground.phase }, { on := 4, ground := Ground.phase }, { on := 5, ground := Ground.phase }, { on := 6, ground := Ground.phase }, { on := 7, ground := Ground.phase }, { on := 8, ground := Ground.phase }, { on := 9, ground := Ground.phase }, { on := 10, ground := Ground.phase }, { on := 11, ground := Ground.phase }, { on := 12, ground := Ground.phase }, { on := 13, ground := Ground.phase }, { on := 14, ground := Ground.phase }, { on := 15, ground := Ground.phase }, { on := 16, ground := Ground.phase }, { on := 17, ground := Ground.phase }, { on := 18, ground := Ground.phase }, { on := 19, ground := Ground.phase }], guard := none }) rfl (fun K hK => ?_) AllReadyH.nil
              obtain ⟨E8, hE8⟩ : ∃ E, w2.setCell ⟨g, 4, none⟩ (.slice b2 (z2 + 1) c2) = E := ⟨_, rfl⟩
              have hP1 := HP.1
              have hP2 := HP.2
              simp only [sv] at hP1
              rw [hE8] at hP1
              have HSe : Hid ((fun V => V.cell? ⟨qb, 0, none⟩ = some (.string m) ∧ V.cell? ⟨qb, 1, none⟩ = some (.string s) ∧ V.cell? ⟨qb, 2, none⟩ = some (.string a) ∧ V.cell? ⟨qb, 3, none⟩ = some (.string p) ∧ V.cell? ⟨qb, 4, none⟩ = some (.slice q1 q2 q3) ∧ V.cell? ⟨qb, 5, none⟩ = some (.string b0) ∧ V.cell? ⟨rb, 0, none⟩ = some (.int .i64 n) ∧ V.cell? ⟨rb, 1, none⟩ = some (.slice r1 r2 r3) ∧ V.cell? ⟨rb, 2, none⟩ = some (.string b) ∧ V.cell? ⟨g, 3, none⟩ = some (.int .i64 c'.ck)) E8) := by
                have hq := HSn.out
                have hge : w.heap.size ≤ qb ∧ w.heap.size ≤ rb := HQl.out.2.2
                have hgl : g < w.heap.size := HLtM.out g (.inl (.inl rfl))
                have e1 : E8.heap[qb]? = w2.heap[qb]? := by rw [← hE8]; exact setCell_other _ _ _ _ _ (by omega)
                have e2 : E8.heap[rb]? = w2.heap[rb]? := by rw [← hE8]; exact setCell_other _ _ _ _ _ (by omega)
                exact ⟨(cell_eq e1).trans hq.1, (cell_eq e1).trans hq.2.1, (cell_eq e1).trans hq.2.2.1, (cell_eq e1).trans hq.2.2.2.1, (cell_eq e1).trans hq.2.2.2.2.1, (cell_eq e1).trans hq.2.2.2.2.2.1, (cell_eq e2).trans hq.2.2.2.2.2.2.1, (cell_eq e2).trans hq.2.2.2.2.2.2.2.1, (cell_eq e2).trans hq.2.2.2.2.2.2.2.2.1, hP1.cells.2.2.2.1⟩
              have HE : Hid (stP w g c' y L ⟨m, s, a, p, (q1, q2, q3), b0⟩ Q n b fr st (.returned (.tuple #[.bool true, .slice gb gl gc])) E8) := by
                refine .inr ⟨HNo.out, (gb, gl, gc), (u1, u2, u3), (n1, n2, n3), (v1, v2, v3), (b2, z2 + 1, c2), rfl, ?_, HZo.out, ?_, ?_, HGw.out, ?_⟩
                · have := hP1
                  rw [(HEvA.out u1 u2 u3 v1 v2 v3).1] at this
                  exact this
                · rw [← hE8]
                  exact HKs.out.trans (Ks.setCell (fun k => k = g) w2 g 4 _ rfl) (fun i _ hi => hi) (fun i _ hi => .inl hi)
                · rw [← hE8, ← (HEvA.out u1 u2 u3 v1 v2 v3).2]
                  exact HGo.out.stays fun k hk _ => setCell_other _ _ _ _ _ (fun e => by have h1 := HGw.out k hk; have h2 := HLtM.out g (.inl (.inl rfl)); omega)
                · intro k hk
                  rcases hk with hk | hk | hk
                  · exact HUn.out k hk
                  · exact HNn.out k hk
                  · exact HVn.out k hk
              have po := cell_blk hP2 4
              have pz := frozen_blk hP2 4
              simp only [cav, List.getElem?_toArray, List.getElem?_cons_succ, List.getElem?_cons_zero, sv] at po
              clear HP hP1 hP2
              go_simp
              go_wp2_with fail
              try rw [hE8]
              refine hK.out _ _ HSe.out (fun hHeld => ?_)
              clear hK K po pz hE8 HSn
              try simp only [Act.put, List.setIfInBounds_toArray, List.set_cons_zero, List.set_cons_succ]
              refine wpAnyH_done (by kernel_rfl) ?_ _
              go_wp2_with fail
              go_ret2
              exact HE.out
            refine AllReadyH.cons (o := { dst := some 69, op := Op.buildSlice 81 1 #[(0, Operand.tmp 68)], type := 81, pos := "cache.go:64", after := #[{ on := 17, ground := Ground.data }], guard := none }) rfl (fun K hK => ?_) AllReadyH.nil
            obtain ⟨q8, hq8⟩ : ∃ q, W8xx.heap.size = q := ⟨_, rfl⟩
            obtain ⟨W8xxx, hV0⟩ : ∃ V, W8xx.alloc (.cells #[.string m, .string s, .string a, .string p, .slice u1 u2 u3, .string ⟨#[]⟩, .slice n1 n2 n3, .int .i64 n, .slice v1 v2 v3, .string b, .int .i64 (z : Int), .int .i64 st, .int .i64 c'.ck] 87) = V := ⟨_, rfl⟩
            have b0x : Below W8xx.heap.size W8xx W8xxx := by rw [← hV0]; exact bel1 _ _
            have hW8xxx : Below w4.heap.size w4 W8xxx := hW8xx.trans (b0x.mono hW8xx.size)
            have HUW8xxx : Hid (R EFd W8xxx (.slice u1 u2 u3) (Q.filter fun f => inS nm f.n)) := HUW8xx.out.below b0x
            have HVW8xxx : Hid (R EFd W8xxx (.slice v1 v2 v3) fr) := HVW8xx.out.below b0x
            have HI8 : Hid (In EE W8xxx (.slice (some ⟨q8, 0, none⟩) 1 1) [(⟨⟨m, s, a, p, (u1, u2, u3), ⟨#[]⟩⟩, (n1, n2, n3), n, (v1, v2, v3), b, z, st, c'.ck, Q.filter (fun f => inS nm f.n), nm, fr⟩ : En)]) := by rw [← hV0, ← hq8]; exact in_one (E := EE) _ _ (⟨⟨m, s, a, p, (u1, u2, u3), ⟨#[]⟩⟩, (n1, n2, n3), n, (v1, v2, v3), b, z, st, c'.ck, Q.filter (fun f => inS nm f.n), nm, fr⟩ : En) #[.string m, .string s, .string a, .string p, .slice u1 u2 u3, .string ⟨#[]⟩, .slice n1 n2 n3, .int .i64 n, .slice v1 v2 v3, .string b, .int .i64 (z : Int), .int .i64 st, .int .i64 c'.ck] 87 (0, 0) (by rw [heap_al, if_pos rfl]) rfl
            clear b0x
            go_simp
            go_wp2_with fail
            try rw [hV0]
            try rw [hq8]
            refine hK.out _ _ (hS8.out _ hW8xxx) (fun hHeld => ?_)
            clear hK K hV0 hq8
            try simp only [Act.put, List.setIfInBounds_toArray, List.set_cons_zero, List.set_cons_succ]
            refine wpAnyH_ready (rs := [4]) (by kernel_rfl) (by simp) ?_
            refine AllReadyH.cons (o := { dst := some 55, op := Op.load 81 (Operand.tmp 54), type := 81, pos := "cache.go:64", after := #[{ on := 3, ground := Ground.data }], guard := none }) rfl (fun K hK => ?_) AllReadyH.nil
            have pc : W8xxx.cell? ⟨g, 4, none⟩ = some (.slice z1 z2 z3) := (HX8.out.below hW8xxx).cells.2.2.2.2.1
            go_simp
            go_wp2_with fail
            refine hK.out _ _ (hS8.out _ hW8xxx) (fun hHeld => ?_)
            clear hK K pc
            try simp only [Act.put, List.setIfInBounds_toArray, List.set_cons_zero, List.set_cons_succ]
            refine wpAnyH_ready (rs := [19]) (by kernel_rfl) (by simp) ?_
            refine AllReadyH.cons (o := { dst := some 70, op := Op.call { callee := Callee.builtin Builtin.append, args := #[Operand.tmp 55, Operand.tmp 69], argTypes := #[81, 81] }, type := 81, pos := "cache.go:64", after := #[{ on := 4, ground := Ground.data }, { on := 18, ground := Ground.data }, { on := 10, ground := Ground.chain }], guard := none }) rfl (fun K hK => ?_) AllReadyH.nil
            have hXV := HX8.out.below hW8xxx
            obtain ⟨b2, c2, w2, hrun, hR2, hG2⟩ := Go.Proofs.YtfponcdhaefkdaaDoor.app okE W8xxx (.slice z1 z2 z3) M hXV.row (.slice (some ⟨q8, 0, none⟩) 1 1) [(⟨⟨m, s, a, p, (u1, u2, u3), ⟨#[]⟩⟩, (n1, n2, n3), n, (v1, v2, v3), b, z, st, c'.ck, Q.filter (fun f => inS nm f.n), nm, fr⟩ : En)] HI8.out (by have := HM64.out; simp only [EE, List.length_singleton]; omega)
            have el : M.length + [(⟨⟨m, s, a, p, (u1, u2, u3), ⟨#[]⟩⟩, (n1, n2, n3), n, (v1, v2, v3), b, z, st, c'.ck, Q.filter (fun f => inS nm f.n), nm, fr⟩ : En)].length = z2 + 1 := by rw [HZ2.out]; rfl
            rw [el] at hrun hR2 hG2
            have HP := Cx.push (w := w) (z := (b2, z2 + 1, c2)) hXV (⟨⟨m, s, a, p, (u1, u2, u3), ⟨#[]⟩⟩, (n1, n2, n3), n, (v1, v2, v3), b, z, st, c'.ck, Q.filter (fun f => inS nm f.n), nm, fr⟩ : En) ⟨HUW8xxx.out, HNr.out.below hW8xxx, HVW8xxx.out⟩ (fun k hk => by
              rcases hk with hk | hk | hk
              · exact HUn.out k hk
              · exact HNn.out k hk
              · exact HVn.out k hk) (fun k hk => HLtM.out k (.inr hk)) (hXV.ok.push _ HLk.out rfl HFq.out) hR2 hG2
            have hown : ∀ k, w.heap.size ≤ k → (Value.slice z1 z2 z3).ownBlock ≠ some k := fun k hk e => by have := HLtM.out k (.inl (.inr (by rw [← HZy.out]; exact e))); omega
            have HSn : Hid ((fun V => V.cell? ⟨qb, 0, none⟩ = some (.string m) ∧ V.cell? ⟨qb, 1, none⟩ = some (.string s) ∧ V.cell? ⟨qb, 2, none⟩ = some (.string a) ∧ V.cell? ⟨qb, 3, none⟩ = some (.string p) ∧ V.cell? ⟨qb, 4, none⟩ = some (.slice q1 q2 q3) ∧ V.cell? ⟨qb, 5, none⟩ = some (.string b0) ∧ V.cell? ⟨rb, 0, none⟩ = some (.int .i64 n) ∧ V.cell? ⟨rb, 1, none⟩ = some (.slice r1 r2 r3) ∧ V.cell? ⟨rb, 2, none⟩ = some (.string b) ∧ V.cell? ⟨g, 3, none⟩ = some (.int .i64 c'.ck)) w2) := by
              have hq := hS8.out _ hW8xxx
              have e1 : w2.heap[qb]? = W8xxx.heap[qb]? := hG2.block qb (Nat.lt_of_lt_of_le HQl.out.1 hW8xxx.size) (hown _ HQl.out.2.2.1)
              have e2 : w2.heap[rb]? = W8xxx.heap[rb]? := hG2.block rb (Nat.lt_of_lt_of_le HQl.out.2.1 hW8xxx.size) (hown _ HQl.out.2.2.2)
              have e3 : w2.heap[g]? = W8xxx.heap[g]? := hG2.block g (heap_lt hXV.blk) hXV.gy
              exact ⟨(cell_eq e1).trans hq.1, (cell_eq e1).trans hq.2.1, (cell_eq e1).trans hq.2.2.1, (cell_eq e1).trans hq.2.2.2.1, (cell_eq e1).trans hq.2.2.2.2.1, (cell_eq e1).trans hq.2.2.2.2.2.1, (cell_eq e2).trans hq.2.2.2.2.2.2.1, (cell_eq e2).trans hq.2.2.2.2.2.2.2.1, (cell_eq e2).trans hq.2.2.2.2.2.2.2.2.1, (cell_eq e3).trans hq.2.2.2.2.2.2.2.2.2⟩
            have HKs : Hid (Ks (Ow g y) w w2) := (HKs8.out.bel hW8xxx).trans (Ks.of_gr hG2) (fun i _ hi => hi) (fun i _ hi => .inr (by rw [← HZy.out]; exact hi))
            have HZo : Hid (∀ k, (Value.slice b2 (z2 + 1) c2).ownBlock = some k → (sv y).ownBlock = some k ∨ w.heap.size ≤ k) := fun k hk => by
              rcases hG2.own k hk with e | e
              · exact .inl (by rw [← HZy.out]; exact e)
              · exact .inr (Nat.le_trans HBw.out (Nat.le_trans hW8xxx.size e))
            have HGo : Hid (R EI w2 (.slice gb gl gc) D) := (HGn.out.below hW8xxx).stays fun k hk hl => hG2.block k hl (hown k (HGw.out k hk))
            clear hown hXV hR2 hG2 el
            refine step_append_run rfl (.tmp 55) (.tmp 69) 81 81 rfl hrun (by first | rfl | simp [Act.eval, Act.put]) (by first | rfl | simp [Act.eval, Act.put]) ?_
            refine hK.out _ _ HSn.out (fun hHeld => ?_)
            clear hK K hrun
            try simp only [Act.put, List.setIfInBounds_toArray, List.set_cons_zero, List.set_cons_succ]
            refine wpAnyH_take (i := 20) (oi := { dst := some 71, op := Op.nilCheck (Operand.tmp 51), type := 0, pos := "cache.go:64", after := #[{ on := 0, ground := Ground.data }, { on := 0, ground := Ground.phase }, { on := 1, ground := Ground.phase }, { on := 2, ground := Ground.phase }, { on := 3, ground := Ground.phase }, { on := 4, ground := Ground.phase }, { on := 5, ground := Ground.phase }, { on := 6, ground := Ground.phase }, { on := 7, ground := Ground.phase }, { on := 8, ground := Ground.phase }, { on := 9, ground := Ground.phase }, { on := 10, ground := Ground.phase }, { on := 11, ground := Ground.phase }, { on := 12, ground := Ground.phase }, { on := 13, ground := Ground.phase }, { on := 14, ground := Ground.phase }, { on := 15, ground := Ground.phase }, { on := 16, ground := Ground.phase }, { on := 17, ground := Ground.phase }, { on := 18, ground := Ground.phase }, { on := 19, ground := Ground.phase }], guard := none }) (v := ?vv24) rfl (by kernel_rfl) (by kernel_rfl) (by kernel_rfl) (fun _ _ _ h => h) (Or.inl ⟨by rfl, ?hy24⟩) (by assumption) ?_
            case hy24 => (intro w hSw; (try dsimp only at hSw); go_simp; all_goals with_reducible rfl)
            try simp only [Act.put, List.setIfInBounds_toArray, List.set_cons_zero, List.set_cons_succ]
            refine wpAnyH_take (i := 21) (oi := { dst := some 72, op := Op.fieldAddr 83 (Operand.tmp 71) 4, type := 0, pos := "cache.go:64", after := #[{ on := 20, ground := Ground.data }, { on := 0, ground := Ground.phase }, { on := 1, ground := Ground.phase }, { on := 2, ground := Ground.phase }, { on := 3, ground := Ground.phase }, { on := 4, ground := Ground.phase }, { on := 5, ground := Ground.phase }, { on := 6, ground := Ground.phase }, { on := 7, ground := Ground.phase }, { on := 8, ground := Ground.phase }, { on := 9, ground := Ground.phase }, { on := 10, ground := Ground.phase }, { on := 11, ground := Ground.phase }, { on := 12, ground := Ground.phase }, { on := 13, ground := Ground.phase }, { on := 14, ground := Ground.phase }, { on := 15, ground := Ground.phase }, { on := 16, ground := Ground.phase }, { on := 17, ground := Ground.phase }, { on := 18, ground := Ground.phase }, { on := 19, ground := Ground.phase }], guard := none }) (v := ?vv25) rfl (by kernel_rfl) (by kernel_rfl) (by kernel_rfl) (fun _ _ _ h => h) (Or.inl ⟨by rfl, ?hy25⟩) (by assumption) ?_
            case hy25 => (intro w hSw; (try dsimp only at hSw); go_simp; all_goals with_reducible rfl)
            try simp only [Act.put, List.setIfInBounds_toArray, List.set_cons_zero, List.set_cons_succ]
            refine wpAnyH_ready (rs := [22]) (by kernel_rfl) (by simp) ?_
            refine AllReadyH.cons (o := { dst := none, op := Op.store 81 (Operand.tmp 72) (Operand.tmp 70), type := 0, pos := "cache.go:64", after := #[{ on := 21, ground := Ground.data }, { on := 19, ground := Ground.data }, { on := 19, ground := Ground.chain }, { on := 0, ground := Ground.phase }, { on := 1, ground := Ground.phase }, { on := 2, ground := Ground.phase }, { on := 3, ground := Ground.phase }, { on := 4, ground := Ground.phase }, { on := 5, ground := Ground.phase }, { on := 6, ground := Ground.phase }, { on := 7, ground := Ground.phase }, { on := 8, ground := Ground.phase }, { on := 9, ground := Ground.phase }, { on := 10, ground := Ground.phase }, { on := 11, ground := Ground.phase }, { on := 12, ground := Ground.phase }, { on := 13, ground := Ground.phase }, { on := 14, ground := Ground.phase }, { on := 15, ground := Ground.phase }, { on := 16, ground := Ground.phase }, { on := 17, ground := Ground.phase }, { on := 18, ground := Ground.phase }, { on := 19, ground := Ground.phase }], guard := none }) rfl (fun K hK => ?_) AllReadyH.nil
            obtain ⟨E8, hE8⟩ : ∃ E, w2.setCell ⟨g, 4, none⟩ (.slice b2 (z2 + 1) c2) = E := ⟨_, rfl⟩
            have hP1 := HP.1
            have hP2 := HP.2
            simp only [sv] at hP1
            rw [hE8] at hP1
            have HSe : Hid ((fun V => V.cell? ⟨qb, 0, none⟩ = some (.string m) ∧ V.cell? ⟨qb, 1, none⟩ = some (.string s) ∧ V.cell? ⟨qb, 2, none⟩ = some (.string a) ∧ V.cell? ⟨qb, 3, none⟩ = some (.string p) ∧ V.cell? ⟨qb, 4, none⟩ = some (.slice q1 q2 q3) ∧ V.cell? ⟨qb, 5, none⟩ = some (.string b0) ∧ V.cell? ⟨rb, 0, none⟩ = some (.int .i64 n) ∧ V.cell? ⟨rb, 1, none⟩ = some (.slice r1 r2 r3) ∧ V.cell? ⟨rb, 2, none⟩ = some (.string b) ∧ V.cell? ⟨g, 3, none⟩ = some (.int .i64 c'.ck)) E8) := by
              have hq := HSn.out
              have hge : w.heap.size ≤ qb ∧ w.heap.size ≤ rb := HQl.out.2.2
              have hgl : g < w.heap.size := HLtM.out g (.inl (.inl rfl))
              have e1 : E8.heap[qb]? = w2.heap[qb]? := by rw [← hE8]; exact setCell_other _ _ _ _ _ (by omega)
              have e2 : E8.heap[rb]? = w2.heap[rb]? := by rw [← hE8]; exact setCell_other _ _ _ _ _ (by omega)
              exact ⟨(cell_eq e1).trans hq.1, (cell_eq e1).trans hq.2.1, (cell_eq e1).trans hq.2.2.1, (cell_eq e1).trans hq.2.2.2.1, (cell_eq e1).trans hq.2.2.2.2.1, (cell_eq e1).trans hq.2.2.2.2.2.1, (cell_eq e2).trans hq.2.2.2.2.2.2.1, (cell_eq e2).trans hq.2.2.2.2.2.2.2.1, (cell_eq e2).trans hq.2.2.2.2.2.2.2.2.1, hP1.cells.2.2.2.1⟩
            have HE : Hid (stP w g c' y L ⟨m, s, a, p, (q1, q2, q3), b0⟩ Q n b fr st (.returned (.tuple #[.bool true, .slice gb gl gc])) E8) := by
              refine .inr ⟨HNo.out, (gb, gl, gc), (u1, u2, u3), (n1, n2, n3), (v1, v2, v3), (b2, z2 + 1, c2), rfl, ?_, HZo.out, ?_, ?_, HGw.out, ?_⟩
              · have := hP1
                rw [(HEvA.out u1 u2 u3 v1 v2 v3).1] at this
                exact this
              · rw [← hE8]
                exact HKs.out.trans (Ks.setCell (fun k => k = g) w2 g 4 _ rfl) (fun i _ hi => hi) (fun i _ hi => .inl hi)
              · rw [← hE8, ← (HEvA.out u1 u2 u3 v1 v2 v3).2]
                exact HGo.out.stays fun k hk _ => setCell_other _ _ _ _ _ (fun e => by have h1 := HGw.out k hk; have h2 := HLtM.out g (.inl (.inl rfl)); omega)
              · intro k hk
                rcases hk with hk | hk | hk
                · exact HUn.out k hk
                · exact HNn.out k hk
                · exact HVn.out k hk
            have po := cell_blk hP2 4
            have pz := frozen_blk hP2 4
            simp only [cav, List.getElem?_toArray, List.getElem?_cons_succ, List.getElem?_cons_zero, sv] at po
            clear HP hP1 hP2
            go_simp
            go_wp2_with fail
            try rw [hE8]
            refine hK.out _ _ HSe.out (fun hHeld => ?_)
            clear hK K po pz hE8 HSn
            try simp only [Act.put, List.setIfInBounds_toArray, List.set_cons_zero, List.set_cons_succ]
            refine wpAnyH_done (by kernel_rfl) ?_ _
            go_wp2_with fail
            go_ret2
            exact HE.out
          · rw [hlk] at HLk
            rcases M with _ | ⟨x, M⟩
            · rw [HLk0.out] at hlk; cases hlk
            have HEv : Hid (evL c' z M = evL c' z M0 ∧ (D1 ++ [x]) ++ evD c' z M = evD c' z M0 ∧ (D1 ++ [x]) ++ M = M0) := by
              have h2 := HJ.out
              unfold evL evD at h2
              rw [hlk] at h2
              simp only [if_true] at h2
              refine ⟨?_, ?_, ?_⟩
              · rw [h2.2.1]; cases M0 <;> rfl
              · rw [List.append_assoc, List.singleton_append, h2.2.2]; cases M0 <;> rfl
              · rw [← h2.1]; simp
            clear hlk HJ
            go_wp2_with fail
            go_at_call 37
            refine HLk.out.mono ?_
            rintro e w4 ⟨rfl, b4⟩
            have HS4 : Hid (So w w4 g y c' (x :: M) (gb, gl, gc) (D0 ++ D1.map (·.st)) qb rb ⟨m, s, a, p, (q1, q2, q3), b0⟩ n (r1, r2, r3) b (n1, n2, n3) (nmF fr)) := HS.out.below b4
            obtain ⟨sx, hsx⟩ : ∃ s, x.st = s := ⟨_, rfl⟩
            have HSx : Hid (x.st = sx) := hsx
            have HO : Hid (Calls Tryd.prog 36 #[.pointer (some ⟨g, 0, none⟩)] w4 fun e w' => e = .returned (.int .i64 sx) ∧ So w w' g y c' M (gb, gl, gc) (D0 ++ D1.map (·.st)) qb rb ⟨m, s, a, p, (q1, q2, q3), b0⟩ n (r1, r2, r3) b (n1, n2, n3) (nmF fr)) := by
              have := HS4.out.oldest
              rw [hsx] at this
              exact this
            clear b4 HS HLk hsx
            go_wp2_with fail
            go_at_call 36
            refine HO.out.mono ?_
            rintro e w5 ⟨rfl, hS5⟩
            obtain ⟨b6, c6, w6, hrun, hS6⟩ := hS5.app sx HD64.out.1
            have HS6 : Hid (So w w6 g y c' M (b6, gl + 1, c6) (D0 ++ (D1 ++ [x]).map (·.st)) qb rb ⟨m, s, a, p, (q1, q2, q3), b0⟩ n (r1, r2, r3) b (n1, n2, n3) (nmF fr) ∧ lenAt g w6 = M.length) := by
              refine ⟨?_, ?_⟩
              · rw [List.map_append, List.map_cons, List.map_nil, HSx.out, ← List.append_assoc]; exact hS6
              · obtain ⟨_, q, _⟩ := hS6.tk.cx; exact q.lenAt
            replace hrun : Hid _ := hrun
            clear hS5 hS6 HO HS4
            go_wp2_with (at_builtin; refine Lib.wpList_append_run _ rfl _ _ _ _ rfl _ _ rfl rfl _ _ hrun.out ?_)
            go_roundw
            case rel => exact ⟨b6, gl + 1, c6, D1 ++ [x], M, by first | rfl | simp, HEv.out.2.2, HEv.out.1, HEv.out.2.1, HS6.out.1⟩
            case measure => rw [HS6.out.2, HMl.out]; simp
  · have HE : Hid (stP w g c' y L ⟨m, s, a, p, (q1, q2, q3), b0⟩ Q n b fr st (.returned (.tuple #[.bool false, .slice gb gl gc])) w3) := .inl ⟨by unfold noB; rw [HsB.out]; simp, (gb, gl, gc), rfl, HS3.out.tk⟩
    clear HS3
    go_wp2_with fail
    go_ret2
    exact HE.out
end Go.Proofs.YtfponcdhaefkdaaDoor
