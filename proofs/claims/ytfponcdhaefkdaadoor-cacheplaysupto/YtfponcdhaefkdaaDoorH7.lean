/- The document's Store. -/
import Derived.Test.YtfponcdhaefkdaaDoorH6
import Derived.Deep.Cut
import Derived.Deep.CutRange
namespace Go.Proofs.YtfponcdhaefkdaaDoor
open Go.RowKit
set_option linter.unusedVariables false
set_option linter.unusedSimpArgs false
/-- what Store tells, and leaves -/
def rstP (W w' : World) (b : Nat) (me mb lf pd : Int) (B : List Kn) (now : Int) (q : Rq) (Q : List Fd) (n : Int) (rb : ByteArray) (fr : List Fd) (st : Int) (r : Ending) : Prop :=
  (noK me mb rb fr = true ∧ ∃ gs sy : SV, r = .returned (.tuple #[.bool false, sv gs]) ∧ Rc w' b me mb lf pd sy (B.filter fun k => !exK now lf k) now ∧ R EI w' (sv gs) ((B.filter (exK now lf)).map (·.st)) ∧ Ks (fun k => k = b) W w' ∧ (∀ k, (sv gs).ownBlock = some k → W.heap.size ≤ k) ∧ (∀ k, (sv sy).ownBlock = some k → W.heap.size ≤ k)) ∨
  (noK me mb rb fr = false ∧ ∃ gs sy yq yr : SV, r = .returned (.tuple #[.bool true, sv gs]) ∧ Rc w' b me mb lf pd sy (ekL me mb (rb.size + szL fr) (B.filter fun k => !exK now lf k) ++ [⟨st, now, ⟨q.m, q.s, q.a, q.p, yq, q.b⟩, n, yr, rb, Q, fr⟩]) now ∧ R EI w' (sv gs) ((B.filter (exK now lf)).map (·.st) ++ (ekD me mb (rb.size + szL fr) (B.filter fun k => !exK now lf k)).map (·.st)) ∧ Ks (fun k => k = b) W w' ∧ (∀ k, (sv gs).ownBlock = some k → W.heap.size ≤ k) ∧ (∀ k, (sv sy).ownBlock = some k → W.heap.size ≤ k) ∧ (∀ k, (sv yq).ownBlock = some k → W.heap.size ≤ k) ∧ (∀ k, (sv yr).ownBlock = some k → W.heap.size ≤ k))
set_option maxHeartbeats 40000000 in
set_option maxRecDepth 100000 in
theorem rstore_any (rN : RefN) (W : World) (b : Nat) (me mb lf pd : Int) (z : SV) (B : List Kn) (now : Int) (h : Rc W b me mb lf pd z B now) (q : Rq) (Q : List Fd) (n : Int) (ry : SV) (rb : ByteArray) (fr : List Fd) (st t : Int) (hQ : ∀ V, Ks (fun k => k = b) W V → In EFd V (sv q.y) Q) (hR : ∀ V, Ks (fun k => k = b) W V → In EFd V (sv ry) fr) (zQ : Q.length ≤ 1099511627776) (zR : fr.length ≤ 1099511627776) (zv : ∀ v ∈ vsL fr varyS, v.size ≤ 140737488351232) (zn : (allP (vsL fr varyS)).length ≤ 4398046511104) (zs : rb.size + szL fr ≤ 1152921504606846976) (ht : t ≤ 9223372036854775807) (har : ∀ k ∈ B, 0 ≤ k.ar ∧ k.ar ≤ now) (hn : 0 ≤ now ∧ now ≤ 9223372036854775807) (hl : B.length ≤ 64) (hto : totK B ≤ 1152921504606846976) (hme : 0 ≤ me ∧ me ≤ 64) (hmb : 0 ≤ mb ∧ mb ≤ 1152921504606846976) :
    Calls Tryd.prog 72 #[.pointer (some ⟨b, 0, none⟩), .agg (rqv q), .agg (rsv n (sv ry) rb), .int .i64 st, .int .i64 t] W fun r w' => rstP W w' b me mb lf pd B (max now t) q Q n rb fr st r := by
  obtain ⟨W1, hW1⟩ : ∃ V, (W.alloc (.cells (rqv q) 24)).alloc (.cells (rsv n (sv ry) rb) 26) = V := ⟨_, rfl⟩
  obtain ⟨q0, hq0⟩ : ∃ k, W.heap.size = k := ⟨_, rfl⟩
  obtain ⟨r0, hr0⟩ : ∃ k, q0 + 1 = k := ⟨_, rfl⟩
  have b1 : Below W.heap.size W W1 := by rw [← hW1]; exact bel2 _ _ _
  have hq1 : RqB W1 q0 q := by unfold RqB; rw [← hW1, ← hq0, heap_al, if_neg (by simp), heap_al, if_pos rfl]
  have hr1 : W1.heap[r0]? = some (.cells (rsv n (sv ry) rb) 26 (0, 0)) := by rw [← hW1, ← hr0, ← hq0]; exact fresh2 _ _ _
  have HQR : Hid (W.heap.size ≤ q0 ∧ W.heap.size ≤ r0 ∧ b < W.heap.size) := ⟨by omega, by omega, heap_lt h.blk⟩
  have HBq : Hid (RqB W1 q0 q ∧ W1.heap[r0]? = some (.cells (rsv n (sv ry) rb) 26 (0, 0)) ∧ Below W.heap.size W W1) := ⟨hq1, hr1, b1⟩
  have HTk : Hid (Calls Tryd.prog 52 #[.pointer (some ⟨b, 0, none⟩), .int .i64 t] W1 fun r w' => ∃ gs sy : SV, r = .returned (sv gs) ∧ Rc w' b me mb lf pd sy (B.filter fun k => !exK (max now t) lf k) (max now t) ∧ R EI w' (sv gs) ((B.filter (exK (max now t) lf)).map (·.st)) ∧ Ks (fun k => k = b) W1 w' ∧ (∀ k, (sv gs).ownBlock = some k → W1.heap.size ≤ k) ∧ (∀ k, (sv sy).ownBlock = some k → W1.heap.size ≤ k)) := rtick_any W1 b me mb lf pd z B now (h.below b1) t ht har hn hl
  have HQ : Hid (∀ V, Ks (fun k => k = b) W V → In EFd V (sv q.y) Q) := hQ
  have HR : Hid (∀ V, Ks (fun k => k = b) W V → In EFd V (sv ry) fr) := hR
  have HZ : Hid (Q.length ≤ 1099511627776 ∧ fr.length ≤ 1099511627776) := ⟨zQ, zR⟩
  have HNm : Hid (∀ V, Ks (fun k => k = b) W V → Calls Tryd.prog 85 #[.agg (rsv n (sv ry) rb)] V fun e w' => NmPost (vsL fr varyS) V e w') := fun V hV => rN n ry rb fr V (hR V hV) zv zn
  have HSz0 : Hid (∀ V, Ks (fun k => k = b) W V → Calls Tryd.prog 26 #[.agg (rsv n (sv ry) rb)] V fun e w' => e = .returned (.int .i64 ((rb.size + szL fr : Nat) : Int)) ∧ Below V.heap.size V w') := fun V hV => rsize_any n ry rb fr V (hR V hV) (by omega)
  obtain ⟨n1, hn1⟩ : ∃ k, max now t = k := ⟨_, rfl⟩
  rw [hn1] at HTk ⊢
  obtain ⟨zz, hzz⟩ : ∃ k, rb.size + szL fr = k := ⟨_, rfl⟩
  have HZz : Hid (rb.size + szL fr = zz ∧ zz ≤ 1152921504606846976) := ⟨hzz, by omega⟩
  rw [hzz] at HSz0
  obtain ⟨M0, hM0⟩ : ∃ l, (B.filter fun k => !exK n1 lf k) = l := ⟨_, rfl⟩
  obtain ⟨D0, hD0⟩ : ∃ l, (B.filter (exK n1 lf)).map (·.st) = l := ⟨_, rfl⟩
  have HMD : Hid ((B.filter fun k => !exK n1 lf k) = M0 ∧ (B.filter (exK n1 lf)).map (·.st) = D0 ∧ M0.length ≤ 64 ∧ D0.length ≤ 64 ∧ totK M0 ≤ 1152921504606846976) := by
    refine ⟨hM0, hD0, ?_, ?_, ?_⟩
    · rw [← hM0]; exact Nat.le_trans (List.length_filter_le _ _) hl
    · rw [← hD0, List.length_map]; exact Nat.le_trans (List.length_filter_le _ _) hl
    · rw [← hM0]
      have : ∀ (p : Kn → Bool) (l : List Kn), totK (l.filter p) ≤ totK l := fun p l => by
        induction l with
        | nil => exact Nat.le_refl _
        | cons x l ih =>
          unfold totK at ih ⊢
          by_cases hp : p x = true
          · rw [List.filter_cons_of_pos hp, List.map_cons, List.map_cons, List.sum_cons, List.sum_cons]; omega
          · rw [List.filter_cons_of_neg hp, List.map_cons, List.sum_cons]; omega
      exact Nat.le_trans (this _ _) hto
  rw [hM0, hD0] at HTk
  have HMe : Hid ((0 ≤ me ∧ me ≤ 64) ∧ (0 ≤ mb ∧ mb ≤ 1152921504606846976)) := ⟨hme, hmb⟩
  obtain ⟨m, s, a, p, ⟨y1, y2, y3⟩, qb⟩ := q
  obtain ⟨r1, r2, r3⟩ := ry
  simp only [sv, rqv, rsv] at hW1 HNm HSz0 HQ HR ⊢
  clear h hq1 hr1 hQ hR zQ zR zv zn zs ht har hn hl hto rN b1 hn1 hzz hM0 hD0 hme hmb
  go_enter Tryd.func72, Tryd.ntmps72
  go_wp2_with fail
  try rw [hW1]
  try rw [hq0]
  try rw [hr0]
  clear hW1 hq0 hr0
  go_at_call 52
  refine HTk.out.mono ?_
  rintro e w1 ⟨⟨g1, g2, g3⟩, ⟨s1, s2, s3⟩, rfl, hRc, hgn, hKs, hg, hs⟩
  have HK : Hid (Ks (fun k => k = b) W w1) := (Ks.of_below HBq.out.2.2 (A := fun _ => False)).trans hKs (fun i _ hi => hi.elim) (fun i _ hi => hi)
  have HS1 : Hid (Sr W w1 b me mb lf pd (s1, s2, s3) M0 n1 (g1, g2, g3) D0 q0 r0 ⟨m, s, a, p, (y1, y2, y3), qb⟩ n (r1, r2, r3) rb) := ⟨hRc, hgn, fun k hk => Nat.le_trans HBq.out.2.2.size (hg k hk), fun k hk => Nat.le_trans HBq.out.2.2.size (hs k hk), (hKs.block q0 (heap_lt HBq.out.1) (by have := HQR.out; omega)).trans HBq.out.1, (hKs.block r0 (heap_lt HBq.out.2.1) (by have := HQR.out; omega)).trans HBq.out.2.1, HK.out, HQR.out.2.2⟩
  have p0 := cell_blk HS1.out.br 0
  have p1 := cell_blk HS1.out.br 1
  have p2 := cell_blk HS1.out.br 2
  simp only [rsv, List.getElem?_toArray, List.getElem?_cons_succ, List.getElem?_cons_zero, sv] at p0 p1 p2
  obtain ⟨sB, hsB⟩ : ∃ x, decide (0 < cnt (allP (vsL fr varyS)) starS) = x := ⟨_, rfl⟩
  have HsB : Hid (decide (0 < cnt (allP (vsL fr varyS)) starS) = sB ∧ starB fr = sB) := ⟨hsB, hsB⟩
  simp only [sv]
  clear hRc hgn hKs hg hs HTk HBq hsB
  go_wp2_with fail
  go_at_call 85
  refine (HNm.out _ HK.out).mono ?_
  rintro e w2 ⟨⟨t1, t2, t3⟩, rfl, bV, _, _⟩
  have HS2 : Hid (Sr W w2 b me mb lf pd (s1, s2, s3) M0 n1 (g1, g2, g3) D0 q0 r0 ⟨m, s, a, p, (y1, y2, y3), qb⟩ n (r1, r2, r3) rb) := HS1.out.below bV
  rw [HsB.out.1]
  simp only [sv]
  obtain ⟨nk, hnk⟩ : ∃ x, noK me mb rb fr = x := ⟨_, rfl⟩
  have HNk : Hid (noK me mb rb fr = nk ∧ nk = (sB || (decide (me = 0) || decide (mb < (zz : Int))))) := by
    refine ⟨hnk, ?_⟩
    rw [← hnk]
    unfold noK
    rw [HsB.out.2, HZz.out.1]
  clear bV p0 p1 p2 HS1 HNm HK hnk
  go_upto_region 3 with fail
  go_cut [43] from 17 (fun v wx => v = .bool nk ∧ Hid (Sr W wx b me mb lf pd (s1, s2, s3) M0 n1 (g1, g2, g3) D0 q0 r0 ⟨m, s, a, p, (y1, y2, y3), qb⟩ n (r1, r2, r3) rb))
  case first =>
    obtain ⟨c0, c1, c2, c3, c4, c5, cf⟩ := HS2.out.rc.cells
    have lb := heap_lt HS2.out.rc.blk
    clear c2 c3 c4 c5 cf
    cases sB
    · by_cases hm0 : me = 0
      · have HE : Hid (nk = true) := by show _ = _; rw [HNk.out.2, decide_eq_true hm0]; rfl
        rw [hm0] at c0
        clear HNk
        go_quiet (fail)
        go_wp2_with fail
        go_meet
        case rel => exact ⟨by rw [HE.out], HS2.out.below (below_drewN (Below.refl _ _) _)⟩
      · have hmb : (me == 0) = false := beq_eq_false_iff_ne.2 hm0
        have HE : Hid (nk = decide (mb < (zz : Int))) := by show _ = _; rw [HNk.out.2, decide_eq_false hm0]; simp
        have HSz : Hid (∀ V, Below w2.heap.size w2 V → Calls Tryd.prog 26 #[.agg #[.int .i64 n, .slice r1 r2 r3, .string rb]] V fun e w' => e = .returned (.int .i64 (zz : Int)) ∧ Below V.heap.size V w') := fun V hV => HSz0.out V (HS2.out.ks.bel hV)
        have hS3 : Hid (∀ V, Below w2.heap.size w2 V → V.cell? ⟨b, 0, none⟩ = some (.int .i64 me) ∧ V.cell? ⟨b, 1, none⟩ = some (.int .i64 mb) ∧ V.cell? ⟨r0, 0, none⟩ = some (.int .i64 n) ∧ V.cell? ⟨r0, 1, none⟩ = some (.slice r1 r2 r3) ∧ V.cell? ⟨r0, 2, none⟩ = some (.string rb)) := fun V hV => by
          have h1 := (HS2.out.below hV).rc.cells
          have h2 := (HS2.out.below hV).br
          exact ⟨h1.1, h1.2.1, cell_blk h2 0, cell_blk h2 1, cell_blk h2 2⟩
        clear HNk c0 c1
        have hIW : Below w2.heap.size w2 w2.drew := (Below.refl _ _).drew
        refine wp_region_held_drew (S := (fun V => V.cell? ⟨b, 0, none⟩ = some (.int .i64 me) ∧ V.cell? ⟨b, 1, none⟩ = some (.int .i64 mb) ∧ V.cell? ⟨r0, 0, none⟩ = some (.int .i64 n) ∧ V.cell? ⟨r0, 1, none⟩ = some (.slice r1 r2 r3) ∧ V.cell? ⟨r0, 2, none⟩ = some (.string rb))) (by kernel_rfl) (hS3.out _ hIW) (fun hHeld => ?_)
        generalize hWg : World.drew _ = W3 at hIW hHeld ⊢
        clear hWg
        refine wpAnyH_take (i := 0) (oi := { dst := some 25, op := Op.move (Operand.tmp 14), type := 4, pos := "ref.go:89", after := #[], guard := none }) (v := ?vv1) rfl (by kernel_rfl) (by kernel_rfl) (by kernel_rfl) (fun _ _ _ h => h) (Or.inl ⟨by rfl, ?hy1⟩) (by assumption) ?_
        case hy1 => (intro w hSw; (try dsimp only at hSw); go_simp; all_goals with_reducible rfl)
        try simp only [Act.put, List.setIfInBounds_toArray, List.set_cons_zero, List.set_cons_succ]
        refine wpAnyH_take (i := 1) (oi := { dst := some 26, op := Op.move (Operand.tmp 25), type := 4, pos := "ref.go:89", after := #[{ on := 0, ground := Ground.data }], guard := none }) (v := ?vv2) rfl (by kernel_rfl) (by kernel_rfl) (by kernel_rfl) (fun _ _ _ h => h) (Or.inl ⟨by rfl, ?hy2⟩) (by assumption) ?_
        case hy2 => (intro w hSw; (try dsimp only at hSw); go_simp; all_goals with_reducible rfl)
        try simp only [Act.put, List.setIfInBounds_toArray, List.set_cons_zero, List.set_cons_succ]
        refine wpAnyH_take (i := 2) (oi := { dst := some 27, op := Op.move (Operand.tmp 0), type := 66, pos := "ref.go:89", after := #[{ on := 1, ground := Ground.guard }], guard := some (1, false) }) (v := ?vv3) rfl (by kernel_rfl) (by kernel_rfl) (by kernel_rfl) (fun _ _ _ h => h) (Or.inl ⟨by rfl, ?hy3⟩) (by assumption) ?_
        case hy3 => (intro w hSw; (try dsimp only at hSw); go_simp; all_goals with_reducible rfl)
        try simp only [Act.put, List.setIfInBounds_toArray, List.set_cons_zero, List.set_cons_succ]
        refine wpAnyH_take (i := 3) (oi := { dst := some 28, op := Op.nilCheck (Operand.tmp 27), type := 0, pos := "ref.go:89", after := #[{ on := 2, ground := Ground.data }, { on := 1, ground := Ground.guard }], guard := some (1, false) }) (v := ?vv4) rfl (by kernel_rfl) (by kernel_rfl) (by kernel_rfl) (fun _ _ _ h => h) (Or.inl ⟨by rfl, ?hy4⟩) (by assumption) ?_
        case hy4 => (intro w hSw; (try dsimp only at hSw); go_simp; all_goals with_reducible rfl)
        try simp only [Act.put, List.setIfInBounds_toArray, List.set_cons_zero, List.set_cons_succ]
        refine wpAnyH_take (i := 4) (oi := { dst := some 29, op := Op.fieldAddr 100 (Operand.tmp 28) 0, type := 0, pos := "ref.go:89", after := #[{ on := 3, ground := Ground.data }, { on := 1, ground := Ground.guard }], guard := some (1, false) }) (v := ?vv5) rfl (by kernel_rfl) (by kernel_rfl) (by kernel_rfl) (fun _ _ _ h => h) (Or.inl ⟨by rfl, ?hy5⟩) (by assumption) ?_
        case hy5 => (intro w hSw; (try dsimp only at hSw); go_simp; all_goals with_reducible rfl)
        try simp only [Act.put, List.setIfInBounds_toArray, List.set_cons_zero, List.set_cons_succ]
        refine wpAnyH_take (i := 5) (oi := { dst := some 30, op := Op.fieldAddr 36 (Operand.tmp 29) 0, type := 0, pos := "ref.go:89", after := #[{ on := 4, ground := Ground.data }, { on := 1, ground := Ground.guard }], guard := some (1, false) }) (v := ?vv6) rfl (by kernel_rfl) (by kernel_rfl) (by kernel_rfl) (fun _ _ _ h => h) (Or.inl ⟨by rfl, ?hy6⟩) (by assumption) ?_
        case hy6 => (intro w hSw; (try dsimp only at hSw); go_simp; all_goals with_reducible rfl)
        try simp only [Act.put, List.setIfInBounds_toArray, List.set_cons_zero, List.set_cons_succ]
        refine wpAnyH_take (i := 6) (oi := { dst := some 31, op := Op.load 2 (Operand.tmp 30), type := 2, pos := "ref.go:89", after := #[{ on := 5, ground := Ground.data }, { on := 1, ground := Ground.guard }], guard := some (1, false) }) (v := ?vv7) rfl (by kernel_rfl) (by kernel_rfl) (by kernel_rfl) (fun _ _ _ h => h) (Or.inl ⟨by rfl, ?hy7⟩) (by assumption) ?_
        case hy7 => (intro w hSw; (try dsimp only at hSw); go_simp; all_goals with_reducible rfl)
        try simp only [Act.put, List.setIfInBounds_toArray, List.set_cons_zero, List.set_cons_succ]
        refine wpAnyH_take (i := 7) (oi := { dst := some 32, op := Op.binOp BinOp.eql 2 (Operand.tmp 31) (Operand.const (Value.int IntKind.i64 0)) 2, type := 4, pos := "ref.go:89", after := #[{ on := 6, ground := Ground.data }, { on := 1, ground := Ground.guard }], guard := some (1, false) }) (v := ?vv8) rfl (by kernel_rfl) (by kernel_rfl) (by kernel_rfl) (fun _ _ _ h => h) (Or.inl ⟨by rfl, ?hy8⟩) (by assumption) ?_
        case hy8 => (intro w hSw; (try dsimp only at hSw); go_simp; all_goals with_reducible rfl)
        try simp only [Act.put, List.setIfInBounds_toArray, List.set_cons_zero, List.set_cons_succ]
        refine wpAnyH_take (i := 8) (oi := { dst := some 33, op := Op.pick (Operand.tmp 26) (Operand.const (Value.bool true)) (Operand.tmp 32), type := 4, pos := "ref.go:89", after := #[{ on := 1, ground := Ground.data }, { on := 7, ground := Ground.data }], guard := none }) (v := ?vv9) rfl (by kernel_rfl) (by kernel_rfl) (by kernel_rfl) (fun _ _ _ h => h) (Or.inl ⟨by rfl, ?hy9⟩) (by assumption) ?_
        case hy9 => (intro w hSw; (try dsimp only at hSw); go_simp; all_goals with_reducible rfl)
        try simp only [Act.put, List.setIfInBounds_toArray, List.set_cons_zero, List.set_cons_succ]
        refine wpAnyH_take (i := 9) (oi := { dst := some 34, op := Op.move (Operand.tmp 33), type := 4, pos := "ref.go:89", after := #[{ on := 8, ground := Ground.data }, { on := 1, ground := Ground.chain }], guard := none }) (v := ?vv10) rfl (by kernel_rfl) (by kernel_rfl) (by kernel_rfl) (fun _ _ _ h => h) (Or.inl ⟨by rfl, ?hy10⟩) (by assumption) ?_
        case hy10 => (intro w hSw; (try dsimp only at hSw); go_simp; all_goals with_reducible rfl)
        try simp only [Act.put, List.setIfInBounds_toArray, List.set_cons_zero, List.set_cons_succ]
        refine wpAnyH_take (i := 10) (oi := { dst := some 35, op := Op.load 26 (Operand.tmp 7), type := 26, pos := "ref.go:89", after := #[{ on := 9, ground := Ground.guard }], guard := some (9, false) }) (v := ?vv11) rfl (by kernel_rfl) (by kernel_rfl) (by kernel_rfl) (fun _ _ _ h => h) (Or.inl ⟨by rfl, ?hy11⟩) (by assumption) ?_
        case hy11 => (intro w hSw; (try dsimp only at hSw); go_simp; all_goals with_reducible rfl)
        try simp only [Act.put, List.setIfInBounds_toArray, List.set_cons_zero, List.set_cons_succ]
        refine wpAnyH_take (i := 12) (oi := { dst := some 37, op := Op.move (Operand.tmp 0), type := 66, pos := "ref.go:89", after := #[{ on := 9, ground := Ground.guard }], guard := some (9, false) }) (v := ?vv12) rfl (by kernel_rfl) (by kernel_rfl) (by kernel_rfl) (fun _ _ _ h => h) (Or.inl ⟨by rfl, ?hy12⟩) (by assumption) ?_
        case hy12 => (intro w hSw; (try dsimp only at hSw); go_simp; all_goals with_reducible rfl)
        try simp only [Act.put, List.setIfInBounds_toArray, List.set_cons_zero, List.set_cons_succ]
        refine wpAnyH_take (i := 13) (oi := { dst := some 38, op := Op.nilCheck (Operand.tmp 37), type := 0, pos := "ref.go:89", after := #[{ on := 12, ground := Ground.data }, { on := 9, ground := Ground.guard }], guard := some (9, false) }) (v := ?vv13) rfl (by kernel_rfl) (by kernel_rfl) (by kernel_rfl) (fun _ _ _ h => h) (Or.inl ⟨by rfl, ?hy13⟩) (by assumption) ?_
        case hy13 => (intro w hSw; (try dsimp only at hSw); go_simp; all_goals with_reducible rfl)
        try simp only [Act.put, List.setIfInBounds_toArray, List.set_cons_zero, List.set_cons_succ]
        refine wpAnyH_take (i := 14) (oi := { dst := some 39, op := Op.fieldAddr 100 (Operand.tmp 38) 0, type := 0, pos := "ref.go:89", after := #[{ on := 13, ground := Ground.data }, { on := 9, ground := Ground.guard }], guard := some (9, false) }) (v := ?vv14) rfl (by kernel_rfl) (by kernel_rfl) (by kernel_rfl) (fun _ _ _ h => h) (Or.inl ⟨by rfl, ?hy14⟩) (by assumption) ?_
        case hy14 => (intro w hSw; (try dsimp only at hSw); go_simp; all_goals with_reducible rfl)
        try simp only [Act.put, List.setIfInBounds_toArray, List.set_cons_zero, List.set_cons_succ]
        refine wpAnyH_take (i := 15) (oi := { dst := some 40, op := Op.fieldAddr 36 (Operand.tmp 39) 1, type := 0, pos := "ref.go:89", after := #[{ on := 14, ground := Ground.data }, { on := 9, ground := Ground.guard }], guard := some (9, false) }) (v := ?vv15) rfl (by kernel_rfl) (by kernel_rfl) (by kernel_rfl) (fun _ _ _ h => h) (Or.inl ⟨by rfl, ?hy15⟩) (by assumption) ?_
        case hy15 => (intro w hSw; (try dsimp only at hSw); go_simp; all_goals with_reducible rfl)
        try simp only [Act.put, List.setIfInBounds_toArray, List.set_cons_zero, List.set_cons_succ]
        refine wpAnyH_take (i := 16) (oi := { dst := some 41, op := Op.load 2 (Operand.tmp 40), type := 2, pos := "ref.go:89", after := #[{ on := 15, ground := Ground.data }, { on := 9, ground := Ground.guard }], guard := some (9, false) }) (v := ?vv16) rfl (by kernel_rfl) (by kernel_rfl) (by kernel_rfl) (fun _ _ _ h => h) (Or.inl ⟨by rfl, ?hy16⟩) (by assumption) ?_
        case hy16 => (intro w hSw; (try dsimp only at hSw); go_simp; all_goals with_reducible rfl)
        try simp only [Act.put, List.setIfInBounds_toArray, List.set_cons_zero, List.set_cons_succ]
        refine wpAnyH_ready (rs := [11]) (by kernel_rfl) (by simp) ?_
        refine AllReadyH.cons (o := { dst := some 36, op := Op.call { callee := Callee.value (Operand.func 26), args := #[Operand.tmp 35], argTypes := #[26] }, type := 2, pos := "ref.go:89", after := #[{ on := 10, ground := Ground.data }, { on := 9, ground := Ground.chain }, { on := 9, ground := Ground.guard }], guard := some (9, false) }) rfl (fun K hK => ?_) AllReadyH.nil
        refine ite_take (by rfl) ?_
        go_simp
        refine (HSz.out _ hIW).mono ?_
        rintro e' W3x ⟨rfl, bX⟩
        have hW3x : Below w2.heap.size w2 W3x := hIW.trans (bX.mono hIW.size)
        clear bX
        go_wp2_with fail
        refine hK.out _ _ (hS3.out _ hW3x) (fun hHeld => ?_)
        clear hK K
        try simp only [Act.put, List.setIfInBounds_toArray, List.set_cons_zero, List.set_cons_succ]
        refine wpAnyH_take (i := 17) (oi := { dst := some 42, op := Op.binOp BinOp.gtr 2 (Operand.tmp 36) (Operand.tmp 41) 2, type := 4, pos := "ref.go:89", after := #[{ on := 11, ground := Ground.data }, { on := 16, ground := Ground.data }, { on := 9, ground := Ground.guard }], guard := some (9, false) }) (v := ?vv17) rfl (by kernel_rfl) (by kernel_rfl) (by kernel_rfl) (fun _ _ _ h => h) (Or.inl ⟨by rfl, ?hy17⟩) (by assumption) ?_
        case hy17 => (intro w hSw; (try dsimp only at hSw); go_simp; all_goals with_reducible rfl)
        try simp only [Act.put, List.setIfInBounds_toArray, List.set_cons_zero, List.set_cons_succ]
        refine wpAnyH_take (i := 18) (oi := { dst := some 43, op := Op.pick (Operand.tmp 34) (Operand.const (Value.bool true)) (Operand.tmp 42), type := 4, pos := "ref.go:89", after := #[{ on := 9, ground := Ground.data }, { on := 17, ground := Ground.data }], guard := none }) (v := ?vv18) rfl (by kernel_rfl) (by kernel_rfl) (by kernel_rfl) (fun _ _ _ h => h) (Or.inl ⟨by rfl, ?hy18⟩) (by assumption) ?_
        case hy18 => (intro w hSw; (try dsimp only at hSw); go_simp; all_goals with_reducible rfl)
        try simp only [Act.put, List.setIfInBounds_toArray, List.set_cons_zero, List.set_cons_succ]
        refine wpAnyH_done (by kernel_rfl) ?_ _
        have HE2 : Hid (Sr W W3x b me mb lf pd (s1, s2, s3) M0 n1 (g1, g2, g3) D0 q0 r0 ⟨m, s, a, p, (y1, y2, y3), qb⟩ n (r1, r2, r3) rb) := HS2.out.below hW3x
        clear hS3 hHeld
        go_wp2_with fail
        go_meet
        case rel => exact ⟨by rw [HE.out], HE2.out⟩
    · have HE : Hid (nk = true) := by show _ = _; rw [HNk.out.2]; rfl
      clear HNk
      go_quiet (fail)
      go_wp2_with fail
      go_meet
      case rel => exact ⟨by rw [HE.out], HS2.out.below (below_drewN (Below.refl _ _) _)⟩
  case rest =>
    obtain ⟨rfl, hS⟩ := hcut
    have HS3 : Hid (Sr W wc b me mb lf pd (s1, s2, s3) M0 n1 (g1, g2, g3) D0 q0 r0 ⟨m, s, a, p, (y1, y2, y3), qb⟩ n (r1, r2, r3) rb) := hS.out
    clear hS HS2
    cases nk
    · have HLk0 : Hid (lkK me mb [] zz = false) := by
        show _ = _
        have h3 := HNk.out.2.symm
        have h2 := HMe.out
        rw [Bool.or_eq_false_iff, Bool.or_eq_false_iff] at h3
        have h4 := of_decide_eq_false h3.2.1
        have h5 := of_decide_eq_false h3.2.2
        unfold lkK
        rw [decide_eq_false (by simp; omega), decide_eq_false (by simp [totK]; omega)]
        rfl
      go_wp2_with fail
      go_loopw [12] (fun gv wr => ∃ (g1 : Option Addr) (g2 g3 : Nat) (s1 : Option Addr) (s2 s3 : Nat) (L1 M : List Kn), gv = .slice g1 g2 g3 ∧ Hid (L1 ++ M = M0 ∧ ekL me mb zz M = ekL me mb zz M0 ∧ L1 ++ ekD me mb zz M = ekD me mb zz M0 ∧ Sr W wr b me mb lf pd (s1, s2, s3) M n1 (g1, g2, g3) (D0 ++ L1.map (·.st)) q0 r0 ⟨m, s, a, p, (y1, y2, y3), qb⟩ n (r1, r2, r3) rb)) (fun _ wr => lenAt b wr)
      case atStart => exact ⟨g1, g2, g3, s1, s2, s3, [], M0, rfl, rfl, rfl, rfl, by simpa using HS3.out⟩
      case round =>
        clear HS3
        obtain ⟨g1, g2, g3, s1, s2, s3, L1, M, rfl, hJ⟩ := hrel
        have HS : Hid (Sr W wr b me mb lf pd (s1, s2, s3) M n1 (g1, g2, g3) (D0 ++ L1.map (·.st)) q0 r0 ⟨m, s, a, p, (y1, y2, y3), qb⟩ n (r1, r2, r3) rb) := hJ.out.2.2.2
        have HJ : Hid (L1 ++ M = M0 ∧ ekL me mb zz M = ekL me mb zz M0 ∧ L1 ++ ekD me mb zz M = ekD me mb zz M0) := ⟨hJ.out.1, hJ.out.2.1, hJ.out.2.2.1⟩
        have HML : Hid (M.length ≤ 64 ∧ totK M ≤ 1152921504606846976 ∧ (D0 ++ L1.map (·.st)).length ≤ 1000) := by
          have h1 := congrArg List.length HJ.out.1
          have h2 := HMD.out
          rw [List.length_append] at h1
          refine ⟨by omega, ?_, by rw [List.length_append, List.length_map]; omega⟩
          have h3 : totK M0 = totK L1 + totK M := by rw [← HJ.out.1]; unfold totK; rw [List.map_append, List.sum_append]
          omega
        have HMl : Hid (lenAt b wr = M.length) := HS.out.rc.lenAt
        clear hJ
        obtain ⟨sm1, sm2, sm3⟩ := slice_len (show In EV wr (.slice s1 s2 s3) M from HS.out.rc.row.isIn)
        have HSl : Hid (M.length = s2) := sm1.symm
        rw [← sm1] at sm2
        obtain ⟨lk, hlk⟩ : ∃ x, lkK me mb M zz = x := ⟨_, rfl⟩
        have HLk : Hid (lkK me mb M zz = lk) := hlk
        clear sm1 hlk
        have h64 : s2 ≤ 64 := by have := HML.out.1; have := HSl.out; omega
        obtain ⟨sq, hsq⟩ : ∃ k, s2 + 1 = k := ⟨_, rfl⟩
        have q0' : (s2 : Int) + 1 = (sq : Int) := by omega
        have hsw : IntKind.i64.wrap (sq : Int) = (sq : Int) := wraps_i64_63 _ (by omega) (by omega)
        have hsb : sq ≤ 65 := by omega
        clear hsq
        go_upto_region 5 with fail
        go_cut [69] from 45 to 88 (fun v wx => v = .bool lk ∧ Hid (Sr W wx b me mb lf pd (s1, s2, s3) M n1 (g1, g2, g3) (D0 ++ L1.map (·.st)) q0 r0 ⟨m, s, a, p, (y1, y2, y3), qb⟩ n (r1, r2, r3) rb))
        case first =>
          obtain ⟨c0, c1, c2, c3, c4, c5, cf⟩ := HS.out.rc.cells
          simp only [sv] at c4
          have lb := heap_lt HS.out.rc.blk
          clear c2 c3 c5 cf
          by_cases hA : me < (sq : Int)
          · have HE : Hid (lk = true) := by show _ = _; rw [← HLk.out]; unfold lkK; rw [HSl.out, q0', decide_eq_true hA]; rfl
            have hAb : decide (me < (sq : Int)) = true := decide_eq_true hA
            go_quiet (fail)
            go_wp2_with fail
            go_meet
            case rel => exact ⟨by rw [HE.out], HS.out.below (below_drewN (Below.refl _ _) _)⟩
          · have hAb : decide (me < (sq : Int)) = false := decide_eq_false hA
            obtain ⟨tt, htt⟩ : ∃ k, totK M = k := ⟨_, rfl⟩
            obtain ⟨su, hsu⟩ : ∃ k, tt + zz = k := ⟨_, rfl⟩
            have q1 : (tt : Int) + (zz : Int) = (su : Int) := by omega
            have HE : Hid (lk = decide (mb < (su : Int))) := by show _ = _; rw [← HLk.out]; unfold lkK; rw [HSl.out, q0', decide_eq_false hA, htt, q1]; rfl
            have hsu2 : IntKind.i64.wrap (su : Int) = (su : Int) := wraps_i64_63 _ (by omega) (by have := HML.out.2.1; have := HZz.out.2; omega)
            have HBy : Hid (∀ V, Below wr.heap.size wr V → Calls Tryd.prog 55 #[.pointer (some ⟨b, 0, none⟩)] V fun e w' => e = .returned (.int .i64 (tt : Int)) ∧ Below V.heap.size V w') := fun V hV => by
              have := rbytes_any V b me mb lf pd _ M n1 (HS.out.below hV).rc (by have := HML.out.2.1; omega)
              rw [htt] at this
              exact this
            have HSz : Hid (∀ V, Below wr.heap.size wr V → Calls Tryd.prog 26 #[.agg #[.int .i64 n, .slice r1 r2 r3, .string rb]] V fun e w' => e = .returned (.int .i64 (zz : Int)) ∧ Below V.heap.size V w') := fun V hV => HSz0.out V (HS.out.ks.bel hV)
            have hS5 : Hid (∀ V, Below wr.heap.size wr V → V.cell? ⟨b, 4, none⟩ = some (.slice s1 s2 s3) ∧ V.cell? ⟨b, 0, none⟩ = some (.int .i64 me) ∧ V.cell? ⟨b, 1, none⟩ = some (.int .i64 mb) ∧ V.cell? ⟨r0, 0, none⟩ = some (.int .i64 n) ∧ V.cell? ⟨r0, 1, none⟩ = some (.slice r1 r2 r3) ∧ V.cell? ⟨r0, 2, none⟩ = some (.string rb)) := fun V hV => by
              have h1 := (HS.out.below hV).rc.cells
              have h2 := (HS.out.below hV).br
              exact ⟨h1.2.2.2.2.1, h1.1, h1.2.1, cell_blk h2 0, cell_blk h2 1, cell_blk h2 2⟩
            clear htt hsu c0 c1 c4
            have hIW : Below wr.heap.size wr wr.drew := (Below.refl _ _).drew
            refine wp_region_held_drew (S := (fun V => V.cell? ⟨b, 4, none⟩ = some (.slice s1 s2 s3) ∧ V.cell? ⟨b, 0, none⟩ = some (.int .i64 me) ∧ V.cell? ⟨b, 1, none⟩ = some (.int .i64 mb) ∧ V.cell? ⟨r0, 0, none⟩ = some (.int .i64 n) ∧ V.cell? ⟨r0, 1, none⟩ = some (.slice r1 r2 r3) ∧ V.cell? ⟨r0, 2, none⟩ = some (.string rb))) (by kernel_rfl) (hS5.out _ hIW) (fun hHeld => ?_)
            generalize hWg : World.drew _ = W5 at hIW hHeld ⊢
            clear hWg
            refine wpAnyH_take (i := 0) (oi := { dst := some 45, op := Op.move (Operand.tmp 0), type := 66, pos := "ref.go:92", after := #[], guard := none }) (v := ?vv19) rfl (by kernel_rfl) (by kernel_rfl) (by kernel_rfl) (fun _ _ _ h => h) (Or.inl ⟨by rfl, ?hy19⟩) (by assumption) ?_
            case hy19 => (intro w hSw; (try dsimp only at hSw); go_simp; all_goals with_reducible rfl)
            try simp only [Act.put, List.setIfInBounds_toArray, List.set_cons_zero, List.set_cons_succ]
            refine wpAnyH_take (i := 1) (oi := { dst := some 46, op := Op.nilCheck (Operand.tmp 45), type := 0, pos := "ref.go:92", after := #[{ on := 0, ground := Ground.data }], guard := none }) (v := ?vv20) rfl (by kernel_rfl) (by kernel_rfl) (by kernel_rfl) (fun _ _ _ h => h) (Or.inl ⟨by rfl, ?hy20⟩) (by assumption) ?_
            case hy20 => (intro w hSw; (try dsimp only at hSw); go_simp; all_goals with_reducible rfl)
            try simp only [Act.put, List.setIfInBounds_toArray, List.set_cons_zero, List.set_cons_succ]
            refine wpAnyH_take (i := 2) (oi := { dst := some 47, op := Op.fieldAddr 100 (Operand.tmp 46) 1, type := 0, pos := "ref.go:92", after := #[{ on := 1, ground := Ground.data }], guard := none }) (v := ?vv21) rfl (by kernel_rfl) (by kernel_rfl) (by kernel_rfl) (fun _ _ _ h => h) (Or.inl ⟨by rfl, ?hy21⟩) (by assumption) ?_
            case hy21 => (intro w hSw; (try dsimp only at hSw); go_simp; all_goals with_reducible rfl)
            try simp only [Act.put, List.setIfInBounds_toArray, List.set_cons_zero, List.set_cons_succ]
            refine wpAnyH_take (i := 3) (oi := { dst := some 48, op := Op.load 98 (Operand.tmp 47), type := 98, pos := "ref.go:92", after := #[{ on := 2, ground := Ground.data }], guard := none }) (v := ?vv22) rfl (by kernel_rfl) (by kernel_rfl) (by kernel_rfl) (fun _ _ _ h => h) (Or.inl ⟨by rfl, ?hy22⟩) (by assumption) ?_
            case hy22 => (intro w hSw; (try dsimp only at hSw); go_simp; all_goals with_reducible rfl)
            try simp only [Act.put, List.setIfInBounds_toArray, List.set_cons_zero, List.set_cons_succ]
            refine wpAnyH_take (i := 4) (oi := { dst := some 49, op := Op.call { callee := Callee.builtin Builtin.len, args := #[Operand.tmp 48], argTypes := #[98] }, type := 3, pos := "ref.go:92", after := #[{ on := 3, ground := Ground.data }], guard := none }) (v := ?vv23) rfl (by kernel_rfl) (by kernel_rfl) (by kernel_rfl) (fun _ _ _ h => h) (Or.inl ⟨by rfl, ?hy23⟩) (by assumption) ?_
            case hy23 => (intro w hSw; (try dsimp only at hSw); go_simp; all_goals with_reducible rfl)
            try simp only [Act.put, List.setIfInBounds_toArray, List.set_cons_zero, List.set_cons_succ]
            refine wpAnyH_take (i := 5) (oi := { dst := some 50, op := Op.binOp BinOp.add 2 (Operand.tmp 49) (Operand.const (Value.int IntKind.i64 1)) 2, type := 2, pos := "ref.go:92", after := #[{ on := 4, ground := Ground.data }], guard := none }) (v := ?vv24) rfl (by kernel_rfl) (by kernel_rfl) (by kernel_rfl) (fun _ _ _ h => h) (Or.inl ⟨by rfl, ?hy24⟩) (by assumption) ?_
            case hy24 => (intro w hSw; (try dsimp only at hSw); go_simp; all_goals with_reducible rfl)
            try simp only [Act.put, List.setIfInBounds_toArray, List.set_cons_zero, List.set_cons_succ]
            refine wpAnyH_take (i := 6) (oi := { dst := some 51, op := Op.move (Operand.tmp 0), type := 66, pos := "ref.go:92", after := #[], guard := none }) (v := ?vv25) rfl (by kernel_rfl) (by kernel_rfl) (by kernel_rfl) (fun _ _ _ h => h) (Or.inl ⟨by rfl, ?hy25⟩) (by assumption) ?_
            case hy25 => (intro w hSw; (try dsimp only at hSw); go_simp; all_goals with_reducible rfl)
            try simp only [Act.put, List.setIfInBounds_toArray, List.set_cons_zero, List.set_cons_succ]
            refine wpAnyH_take (i := 7) (oi := { dst := some 52, op := Op.nilCheck (Operand.tmp 51), type := 0, pos := "ref.go:92", after := #[{ on := 6, ground := Ground.data }], guard := none }) (v := ?vv26) rfl (by kernel_rfl) (by kernel_rfl) (by kernel_rfl) (fun _ _ _ h => h) (Or.inl ⟨by rfl, ?hy26⟩) (by assumption) ?_
            case hy26 => (intro w hSw; (try dsimp only at hSw); go_simp; all_goals with_reducible rfl)
            try simp only [Act.put, List.setIfInBounds_toArray, List.set_cons_zero, List.set_cons_succ]
            refine wpAnyH_take (i := 8) (oi := { dst := some 53, op := Op.fieldAddr 100 (Operand.tmp 52) 0, type := 0, pos := "ref.go:92", after := #[{ on := 7, ground := Ground.data }], guard := none }) (v := ?vv27) rfl (by kernel_rfl) (by kernel_rfl) (by kernel_rfl) (fun _ _ _ h => h) (Or.inl ⟨by rfl, ?hy27⟩) (by assumption) ?_
            case hy27 => (intro w hSw; (try dsimp only at hSw); go_simp; all_goals with_reducible rfl)
            try simp only [Act.put, List.setIfInBounds_toArray, List.set_cons_zero, List.set_cons_succ]
            refine wpAnyH_take (i := 9) (oi := { dst := some 54, op := Op.fieldAddr 36 (Operand.tmp 53) 0, type := 0, pos := "ref.go:92", after := #[{ on := 8, ground := Ground.data }], guard := none }) (v := ?vv28) rfl (by kernel_rfl) (by kernel_rfl) (by kernel_rfl) (fun _ _ _ h => h) (Or.inl ⟨by rfl, ?hy28⟩) (by assumption) ?_
            case hy28 => (intro w hSw; (try dsimp only at hSw); go_simp; all_goals with_reducible rfl)
            try simp only [Act.put, List.setIfInBounds_toArray, List.set_cons_zero, List.set_cons_succ]
            refine wpAnyH_take (i := 10) (oi := { dst := some 55, op := Op.load 2 (Operand.tmp 54), type := 2, pos := "ref.go:92", after := #[{ on := 9, ground := Ground.data }], guard := none }) (v := ?vv29) rfl (by kernel_rfl) (by kernel_rfl) (by kernel_rfl) (fun _ _ _ h => h) (Or.inl ⟨by rfl, ?hy29⟩) (by assumption) ?_
            case hy29 => (intro w hSw; (try dsimp only at hSw); go_simp; all_goals with_reducible rfl)
            try simp only [Act.put, List.setIfInBounds_toArray, List.set_cons_zero, List.set_cons_succ]
            refine wpAnyH_take (i := 11) (oi := { dst := some 56, op := Op.binOp BinOp.gtr 2 (Operand.tmp 50) (Operand.tmp 55) 2, type := 4, pos := "ref.go:92", after := #[{ on := 5, ground := Ground.data }, { on := 10, ground := Ground.data }], guard := none }) (v := ?vv30) rfl (by kernel_rfl) (by kernel_rfl) (by kernel_rfl) (fun _ _ _ h => h) (Or.inl ⟨by rfl, ?hy30⟩) (by assumption) ?_
            case hy30 => (intro w hSw; (try dsimp only at hSw); go_simp; all_goals with_reducible rfl)
            try simp only [Act.put, List.setIfInBounds_toArray, List.set_cons_zero, List.set_cons_succ]
            refine wpAnyH_take (i := 12) (oi := { dst := some 57, op := Op.move (Operand.tmp 56), type := 4, pos := "ref.go:92", after := #[{ on := 11, ground := Ground.data }], guard := none }) (v := ?vv31) rfl (by kernel_rfl) (by kernel_rfl) (by kernel_rfl) (fun _ _ _ h => h) (Or.inl ⟨by rfl, ?hy31⟩) (by assumption) ?_
            case hy31 => (intro w hSw; (try dsimp only at hSw); go_simp; all_goals with_reducible rfl)
            try simp only [Act.put, List.setIfInBounds_toArray, List.set_cons_zero, List.set_cons_succ]
            refine wpAnyH_take (i := 13) (oi := { dst := some 58, op := Op.move (Operand.tmp 0), type := 66, pos := "ref.go:92", after := #[{ on := 12, ground := Ground.guard }], guard := some (12, false) }) (v := ?vv32) rfl (by kernel_rfl) (by kernel_rfl) (by kernel_rfl) (fun _ _ _ h => h) (Or.inl ⟨by rfl, ?hy32⟩) (by assumption) ?_
            case hy32 => (intro w hSw; (try dsimp only at hSw); go_simp; all_goals with_reducible rfl)
            try simp only [Act.put, List.setIfInBounds_toArray, List.set_cons_zero, List.set_cons_succ]
            refine wpAnyH_take (i := 15) (oi := { dst := some 60, op := Op.load 26 (Operand.tmp 7), type := 26, pos := "ref.go:92", after := #[{ on := 12, ground := Ground.guard }], guard := some (12, false) }) (v := ?vv33) rfl (by kernel_rfl) (by kernel_rfl) (by kernel_rfl) (fun _ _ _ h => h) (Or.inl ⟨by rfl, ?hy33⟩) (by assumption) ?_
            case hy33 => (intro w hSw; (try dsimp only at hSw); go_simp; all_goals with_reducible rfl)
            try simp only [Act.put, List.setIfInBounds_toArray, List.set_cons_zero, List.set_cons_succ]
            refine wpAnyH_take (i := 18) (oi := { dst := some 63, op := Op.move (Operand.tmp 0), type := 66, pos := "ref.go:92", after := #[{ on := 12, ground := Ground.guard }], guard := some (12, false) }) (v := ?vv34) rfl (by kernel_rfl) (by kernel_rfl) (by kernel_rfl) (fun _ _ _ h => h) (Or.inl ⟨by rfl, ?hy34⟩) (by assumption) ?_
            case hy34 => (intro w hSw; (try dsimp only at hSw); go_simp; all_goals with_reducible rfl)
            try simp only [Act.put, List.setIfInBounds_toArray, List.set_cons_zero, List.set_cons_succ]
            refine wpAnyH_take (i := 19) (oi := { dst := some 64, op := Op.nilCheck (Operand.tmp 63), type := 0, pos := "ref.go:92", after := #[{ on := 18, ground := Ground.data }, { on := 12, ground := Ground.guard }], guard := some (12, false) }) (v := ?vv35) rfl (by kernel_rfl) (by kernel_rfl) (by kernel_rfl) (fun _ _ _ h => h) (Or.inl ⟨by rfl, ?hy35⟩) (by assumption) ?_
            case hy35 => (intro w hSw; (try dsimp only at hSw); go_simp; all_goals with_reducible rfl)
            try simp only [Act.put, List.setIfInBounds_toArray, List.set_cons_zero, List.set_cons_succ]
            refine wpAnyH_take (i := 20) (oi := { dst := some 65, op := Op.fieldAddr 100 (Operand.tmp 64) 0, type := 0, pos := "ref.go:92", after := #[{ on := 19, ground := Ground.data }, { on := 12, ground := Ground.guard }], guard := some (12, false) }) (v := ?vv36) rfl (by kernel_rfl) (by kernel_rfl) (by kernel_rfl) (fun _ _ _ h => h) (Or.inl ⟨by rfl, ?hy36⟩) (by assumption) ?_
            case hy36 => (intro w hSw; (try dsimp only at hSw); go_simp; all_goals with_reducible rfl)
            try simp only [Act.put, List.setIfInBounds_toArray, List.set_cons_zero, List.set_cons_succ]
            refine wpAnyH_take (i := 21) (oi := { dst := some 66, op := Op.fieldAddr 36 (Operand.tmp 65) 1, type := 0, pos := "ref.go:92", after := #[{ on := 20, ground := Ground.data }, { on := 12, ground := Ground.guard }], guard := some (12, false) }) (v := ?vv37) rfl (by kernel_rfl) (by kernel_rfl) (by kernel_rfl) (fun _ _ _ h => h) (Or.inl ⟨by rfl, ?hy37⟩) (by assumption) ?_
            case hy37 => (intro w hSw; (try dsimp only at hSw); go_simp; all_goals with_reducible rfl)
            try simp only [Act.put, List.setIfInBounds_toArray, List.set_cons_zero, List.set_cons_succ]
            refine wpAnyH_take (i := 22) (oi := { dst := some 67, op := Op.load 2 (Operand.tmp 66), type := 2, pos := "ref.go:92", after := #[{ on := 21, ground := Ground.data }, { on := 12, ground := Ground.guard }], guard := some (12, false) }) (v := ?vv38) rfl (by kernel_rfl) (by kernel_rfl) (by kernel_rfl) (fun _ _ _ h => h) (Or.inl ⟨by rfl, ?hy38⟩) (by assumption) ?_
            case hy38 => (intro w hSw; (try dsimp only at hSw); go_simp; all_goals with_reducible rfl)
            try simp only [Act.put, List.setIfInBounds_toArray, List.set_cons_zero, List.set_cons_succ]
            refine wpAnyH_ready (rs := [14]) (by kernel_rfl) (by simp) ?_
            refine AllReadyH.cons (o := { dst := some 59, op := Op.call { callee := Callee.value (Operand.func 55), args := #[Operand.tmp 58], argTypes := #[66] }, type := 2, pos := "ref.go:92", after := #[{ on := 13, ground := Ground.data }, { on := 12, ground := Ground.chain }, { on := 12, ground := Ground.guard }], guard := some (12, false) }) rfl (fun K hK => ?_) AllReadyH.nil
            refine ite_take (by rfl) ?_
            go_simp
            refine (HBy.out _ hIW).mono ?_
            rintro e' W5x ⟨rfl, bX⟩
            have hW5x : Below wr.heap.size wr W5x := hIW.trans (bX.mono hIW.size)
            clear bX
            go_wp2_with fail
            refine hK.out _ _ (hS5.out _ hW5x) (fun hHeld => ?_)
            clear hK K
            try simp only [Act.put, List.setIfInBounds_toArray, List.set_cons_zero, List.set_cons_succ]
            refine wpAnyH_ready (rs := [16]) (by kernel_rfl) (by simp) ?_
            refine AllReadyH.cons (o := { dst := some 61, op := Op.call { callee := Callee.value (Operand.func 26), args := #[Operand.tmp 60], argTypes := #[26] }, type := 2, pos := "ref.go:92", after := #[{ on := 15, ground := Ground.data }, { on := 14, ground := Ground.chain }, { on := 12, ground := Ground.guard }], guard := some (12, false) }) rfl (fun K hK => ?_) AllReadyH.nil
            refine ite_take (by rfl) ?_
            go_simp
            refine (HSz.out _ hW5x).mono ?_
            rintro e' W5xx ⟨rfl, bX⟩
            have hW5xx : Below wr.heap.size wr W5xx := hW5x.trans (bX.mono hW5x.size)
            clear bX
            go_wp2_with fail
            refine hK.out _ _ (hS5.out _ hW5xx) (fun hHeld => ?_)
            clear hK K
            try simp only [Act.put, List.setIfInBounds_toArray, List.set_cons_zero, List.set_cons_succ]
            refine wpAnyH_take (i := 17) (oi := { dst := some 62, op := Op.binOp BinOp.add 2 (Operand.tmp 59) (Operand.tmp 61) 2, type := 2, pos := "ref.go:92", after := #[{ on := 14, ground := Ground.data }, { on := 16, ground := Ground.data }, { on := 12, ground := Ground.guard }], guard := some (12, false) }) (v := ?vv39) rfl (by kernel_rfl) (by kernel_rfl) (by kernel_rfl) (fun _ _ _ h => h) (Or.inl ⟨by rfl, ?hy39⟩) (by assumption) ?_
            case hy39 => (intro w hSw; (try dsimp only at hSw); go_simp; all_goals with_reducible rfl)
            try simp only [Act.put, List.setIfInBounds_toArray, List.set_cons_zero, List.set_cons_succ]
            refine wpAnyH_take (i := 23) (oi := { dst := some 68, op := Op.binOp BinOp.gtr 2 (Operand.tmp 62) (Operand.tmp 67) 2, type := 4, pos := "ref.go:92", after := #[{ on := 17, ground := Ground.data }, { on := 22, ground := Ground.data }, { on := 12, ground := Ground.guard }], guard := some (12, false) }) (v := ?vv40) rfl (by kernel_rfl) (by kernel_rfl) (by kernel_rfl) (fun _ _ _ h => h) (Or.inl ⟨by rfl, ?hy40⟩) (by assumption) ?_
            case hy40 => (intro w hSw; (try dsimp only at hSw); go_simp; all_goals with_reducible rfl)
            try simp only [Act.put, List.setIfInBounds_toArray, List.set_cons_zero, List.set_cons_succ]
            refine wpAnyH_take (i := 24) (oi := { dst := some 69, op := Op.pick (Operand.tmp 57) (Operand.const (Value.bool true)) (Operand.tmp 68), type := 4, pos := "ref.go:92", after := #[{ on := 12, ground := Ground.data }, { on := 23, ground := Ground.data }], guard := none }) (v := ?vv41) rfl (by kernel_rfl) (by kernel_rfl) (by kernel_rfl) (fun _ _ _ h => h) (Or.inl ⟨by rfl, ?hy41⟩) (by assumption) ?_
            case hy41 => (intro w hSw; (try dsimp only at hSw); go_simp; all_goals with_reducible rfl)
            try simp only [Act.put, List.setIfInBounds_toArray, List.set_cons_zero, List.set_cons_succ]
            refine wpAnyH_done (by kernel_rfl) ?_ _
            have HE2 : Hid (Sr W W5xx b me mb lf pd (s1, s2, s3) M n1 (g1, g2, g3) (D0 ++ L1.map (·.st)) q0 r0 ⟨m, s, a, p, (y1, y2, y3), qb⟩ n (r1, r2, r3) rb) := HS.out.below hW5xx
            clear hS5 hHeld
            go_wp2_with fail
            go_meet
            case rel => exact ⟨by rw [HE.out], HE2.out⟩
        case rest =>
          obtain ⟨rfl, hS⟩ := hcut
          have HS6 : Hid (Sr W wc b me mb lf pd (s1, s2, s3) M n1 (g1, g2, g3) (D0 ++ L1.map (·.st)) q0 r0 ⟨m, s, a, p, (y1, y2, y3), qb⟩ n (r1, r2, r3) rb) := hS.out
          clear hS HS q0' hsw hsb
          cases lk
          · have HEv : Hid (ekL me mb zz M0 = M ∧ ekD me mb zz M0 = L1) := by
              have h1 : ekL me mb zz M = M ∧ ekD me mb zz M = [] := by
                rcases M with _ | ⟨x, M⟩
                · exact ⟨rfl, rfl⟩
                · unfold ekL ekD
                  rw [HLk.out]
                  exact ⟨rfl, rfl⟩
              have h2 := HJ.out
              rw [h1.1, h1.2, List.append_nil] at h2
              exact ⟨h2.2.1.symm, h2.2.2.symm⟩
            have HWc : Hid (W.heap.size ≤ wc.heap.size ∧ q0 < wc.heap.size ∧ r0 < wc.heap.size) := ⟨HS6.out.ks.size, heap_lt HS6.out.bq, heap_lt HS6.out.br⟩
            obtain ⟨f0, f1, f2, f3, f4, f5, f6⟩ := HS6.out.bq.cells
            simp only [sv] at f4
            obtain ⟨k1, hk1⟩ : ∃ k, wc.heap.size = k := ⟨_, rfl⟩
            obtain ⟨V8, hV8⟩ : ∃ V, wc.alloc (.cells #[.string m, .string s, .string a, .string p, .slice y1 y2 y3, .string qb] 24) = V := ⟨_, rfl⟩
            have b8 : Below wc.heap.size wc V8 := by rw [← hV8]; exact bel1 _ _
            have HS8 : Hid (Sr W V8 b me mb lf pd (s1, s2, s3) M n1 (g1, g2, g3) (D0 ++ L1.map (·.st)) q0 r0 ⟨m, s, a, p, (y1, y2, y3), qb⟩ n (r1, r2, r3) rb) := HS6.out.below b8
            have HK1 : Hid (V8.heap[k1]? = some (.cells #[.string m, .string s, .string a, .string p, .slice y1 y2 y3, .string qb] 24 (0, 0)) ∧ W.heap.size ≤ k1 ∧ k1 ≠ q0 ∧ k1 ≠ r0) := ⟨by rw [← hV8, ← hk1, heap_al, if_pos rfl], by have := HWc.out; omega, by have := HWc.out; omega, by have := HWc.out; omega⟩
            clear b8
            go_upto_region 9 with fail
            try rw [hV8]
            try rw [hk1]
            clear hV8 hk1 HS6 f0 f1 f2 f3 f4 f5 f6
            obtain ⟨f0, f1, f2, f3, f4, f5, f6⟩ := HS8.out.bq.cells
            simp only [sv] at f4
            have HFq : Hid (Calls Tryd.prog 86 #[.slice y1 y2 y3] V8 fun e w' => ∃ z : SV, e = .returned (sv z) ∧ R EFd w' (sv z) Q ∧ (∀ k, (sv z).ownBlock = some k → V8.heap.size ≤ k) ∧ Below V8.heap.size V8 w') := rfields_any (y1, y2, y3) Q V8 (HQ.out V8 HS8.out.ks) HZ.out.1
            clear f0 f1 f2 f3 f5 f6
            go_wp2_with fail
            go_at_call 86
            refine HFq.out.mono ?_
            rintro e V9 ⟨⟨u1, u2, u3⟩, rfl, hRq, hnq, b9⟩
            have hK9 := (b9.block _ (heap_lt HK1.out.1)).trans HK1.out.1
            have p4 := cell_blk hK9 4
            have pf := frozen_blk hK9 4
            simp only [List.getElem?_toArray, List.getElem?_cons_succ, List.getElem?_cons_zero] at p4
            obtain ⟨V10, hV10⟩ : ∃ V, V9.setCell ⟨k1, 4, none⟩ (.slice u1 u2 u3) = V := ⟨_, rfl⟩
            have HS10 : Hid (Sr W V10 b me mb lf pd (s1, s2, s3) M n1 (g1, g2, g3) (D0 ++ L1.map (·.st)) q0 r0 ⟨m, s, a, p, (y1, y2, y3), qb⟩ n (r1, r2, r3) rb ∧ V10.heap[k1]? = some (.cells #[.string m, .string s, .string a, .string p, .slice u1 u2 u3, .string qb] 24 (0, 0)) ∧ R EFd V10 (.slice u1 u2 u3) Q ∧ (∀ k, (Value.slice u1 u2 u3).ownBlock = some k → W.heap.size ≤ k)) := by
              have h1 := (HS8.out.below b9).box hK9 (by decide) ⟨HK1.out.2.2.1, HK1.out.2.2.2⟩ HK1.out.2.1 4 (.slice u1 u2 u3)
              rw [hV10] at h1
              have hRq' : R EFd V9 (.slice u1 u2 u3) Q := hRq
              refine ⟨h1, by rw [← hV10, setCell_block _ _ _ _ _ _ _ hK9]; rfl, hRq'.stays fun k hk _ => ?_, fun k hk => Nat.le_trans HS8.out.ks.size (hnq k hk)⟩
              obtain ⟨cc, hc⟩ := hRq'.ty k hk
              rw [← hV10]
              exact setCell_other _ _ _ _ _ (ty_ne hc hK9 (show (51 : TypeId) ≠ 24 by decide))
            simp only [sv]
            clear hRq hnq b9 hK9 HFq HS8 f4
            go_upto_region 10 with fail
            try rw [hV10]
            clear hV10 p4 pf
            have g0 := cell_blk HS10.out.1.br 0
            have g1' := cell_blk HS10.out.1.br 1
            have g2' := cell_blk HS10.out.1.br 2
            simp only [rsv, List.getElem?_toArray, List.getElem?_cons_succ, List.getElem?_cons_zero, sv] at g0 g1' g2'
            have HW10 : Hid (W.heap.size ≤ V10.heap.size ∧ q0 < V10.heap.size ∧ r0 < V10.heap.size ∧ k1 < V10.heap.size) := ⟨HS10.out.1.ks.size, heap_lt HS10.out.1.bq, heap_lt HS10.out.1.br, heap_lt HS10.out.2.1⟩
            obtain ⟨k2, hk2⟩ : ∃ k, V10.heap.size = k := ⟨_, rfl⟩
            obtain ⟨V11, hV11⟩ : ∃ V, V10.alloc (.cells #[.int .i64 n, .slice r1 r2 r3, .string rb] 26) = V := ⟨_, rfl⟩
            have b11 : Below V10.heap.size V10 V11 := by rw [← hV11]; exact bel1 _ _
            have HS11 : Hid (Sr W V11 b me mb lf pd (s1, s2, s3) M n1 (g1, g2, g3) (D0 ++ L1.map (·.st)) q0 r0 ⟨m, s, a, p, (y1, y2, y3), qb⟩ n (r1, r2, r3) rb ∧ V11.heap[k1]? = some (.cells #[.string m, .string s, .string a, .string p, .slice u1 u2 u3, .string qb] 24 (0, 0)) ∧ R EFd V11 (.slice u1 u2 u3) Q ∧ (∀ k, (Value.slice u1 u2 u3).ownBlock = some k → W.heap.size ≤ k)) := ⟨HS10.out.1.below b11, (b11.block _ (heap_lt HS10.out.2.1)).trans HS10.out.2.1, HS10.out.2.2.1.below b11, HS10.out.2.2.2⟩
            have HK2 : Hid (V11.heap[k2]? = some (.cells #[.int .i64 n, .slice r1 r2 r3, .string rb] 26 (0, 0)) ∧ W.heap.size ≤ k2 ∧ k2 ≠ q0 ∧ k2 ≠ r0 ∧ k2 ≠ k1) := ⟨by rw [← hV11, ← hk2, heap_al, if_pos rfl], by have := HW10.out; omega, by have := HW10.out; omega, by have := HW10.out; omega, by have := HW10.out; omega⟩
            clear b11
            go_upto_region 11 with fail
            try rw [hV11]
            try rw [hk2]
            clear hV11 hk2 HS10 g0 g1' g2'
            have g1' := cell_blk HS11.out.1.br 1
            simp only [rsv, List.getElem?_toArray, List.getElem?_cons_succ, List.getElem?_cons_zero, sv] at g1'
            have HFr : Hid (Calls Tryd.prog 86 #[.slice r1 r2 r3] V11 fun e w' => ∃ z : SV, e = .returned (sv z) ∧ R EFd w' (sv z) fr ∧ (∀ k, (sv z).ownBlock = some k → V11.heap.size ≤ k) ∧ Below V11.heap.size V11 w') := rfields_any (r1, r2, r3) fr V11 (HR.out V11 HS11.out.1.ks) HZ.out.2
            go_wp2_with fail
            go_at_call 86
            refine HFr.out.mono ?_
            rintro e V11b ⟨⟨v1, v2, v3⟩, rfl, hRr, hnr, b11⟩
            have hK11 := (b11.block _ (heap_lt HK2.out.1)).trans HK2.out.1
            have p1 := cell_blk hK11 1
            have pf := frozen_blk hK11 1
            simp only [List.getElem?_toArray, List.getElem?_cons_succ, List.getElem?_cons_zero] at p1
            obtain ⟨V12, hV12⟩ : ∃ V, V11b.setCell ⟨k2, 1, none⟩ (.slice v1 v2 v3) = V := ⟨_, rfl⟩
            have HC12 : Hid (Sr W V12 b me mb lf pd (s1, s2, s3) M n1 (g1, g2, g3) (D0 ++ L1.map (·.st)) q0 r0 ⟨m, s, a, p, (y1, y2, y3), qb⟩ n (r1, r2, r3) rb ∧ V12.heap[k1]? = some (.cells #[.string m, .string s, .string a, .string p, .slice u1 u2 u3, .string qb] 24 (0, 0)) ∧ V12.heap[k2]? = some (.cells #[.int .i64 n, .slice v1 v2 v3, .string rb] 26 (0, 0)) ∧ R EFd V12 (.slice u1 u2 u3) Q ∧ R EFd V12 (.slice v1 v2 v3) fr ∧ (∀ k, (Value.slice u1 u2 u3).ownBlock = some k → W.heap.size ≤ k) ∧ (∀ k, (Value.slice v1 v2 v3).ownBlock = some k → W.heap.size ≤ k)) := by
              have h1 := (HS11.out.1.below b11).box hK11 (by decide) ⟨HK2.out.2.2.1, HK2.out.2.2.2.1⟩ HK2.out.2.1 1 (.slice v1 v2 v3)
              rw [hV12] at h1
              have hRr' : R EFd V11b (.slice v1 v2 v3) fr := hRr
              have hRq' : R EFd V11b (.slice u1 u2 u3) Q := HS11.out.2.2.1.below b11
              have hst : ∀ (x : SV) (l : List Fd), R EFd V11b (sv x) l → R EFd V12 (sv x) l := fun x l hx => hx.stays fun k hk _ => by
                obtain ⟨cc, hc⟩ := hx.ty k hk
                rw [← hV12]
                exact setCell_other _ _ _ _ _ (ty_ne hc hK11 (show (51 : TypeId) ≠ 26 by decide))
              refine ⟨h1, ?_, by rw [← hV12, setCell_block _ _ _ _ _ _ _ hK11]; rfl, hst (u1, u2, u3) Q hRq', hst (v1, v2, v3) fr hRr', HS11.out.2.2.2, fun k hk => Nat.le_trans HS11.out.1.ks.size (hnr k hk)⟩
              rw [← hV12, setCell_other _ _ _ _ _ HK2.out.2.2.2.2.symm]
              exact (b11.block _ (heap_lt HS11.out.2.1)).trans HS11.out.2.1
            simp only [sv]
            clear hRr hnr b11 hK11 HFr HS11 g1'
            go_upto_region 12 with fail
            try rw [hV12]
            clear hV12 p1 pf
            have lb := heap_lt HC12.out.1.rc.blk
            have hS12 : Hid (∀ V, Below V12.heap.size V12 V → V.cell? ⟨b, 5, none⟩ = some (.int .i64 n1) ∧ V.cell? ⟨k1, 0, none⟩ = some (.string m) ∧ V.cell? ⟨k1, 1, none⟩ = some (.string s) ∧ V.cell? ⟨k1, 2, none⟩ = some (.string a) ∧ V.cell? ⟨k1, 3, none⟩ = some (.string p) ∧ V.cell? ⟨k1, 4, none⟩ = some (.slice u1 u2 u3) ∧ V.cell? ⟨k1, 5, none⟩ = some (.string qb) ∧ V.cell? ⟨k2, 0, none⟩ = some (.int .i64 n) ∧ V.cell? ⟨k2, 1, none⟩ = some (.slice v1 v2 v3) ∧ V.cell? ⟨k2, 2, none⟩ = some (.string rb)) := fun V hV => by
              have h1 := (HC12.out.1.below hV).rc.blk
              have h2 := (hV.block _ (heap_lt HC12.out.2.1)).trans HC12.out.2.1
              have h3 := (hV.block _ (heap_lt HC12.out.2.2.1)).trans HC12.out.2.2.1
              exact ⟨cell_blk h1 5, cell_blk h2 0, cell_blk h2 1, cell_blk h2 2, cell_blk h2 3, cell_blk h2 4, cell_blk h2 5, cell_blk h3 0, cell_blk h3 1, cell_blk h3 2⟩
            have hIW : Below V12.heap.size V12 V12.drew := (Below.refl _ _).drew
            refine wp_region_held_drew (S := (fun V => V.cell? ⟨b, 5, none⟩ = some (.int .i64 n1) ∧ V.cell? ⟨k1, 0, none⟩ = some (.string m) ∧ V.cell? ⟨k1, 1, none⟩ = some (.string s) ∧ V.cell? ⟨k1, 2, none⟩ = some (.string a) ∧ V.cell? ⟨k1, 3, none⟩ = some (.string p) ∧ V.cell? ⟨k1, 4, none⟩ = some (.slice u1 u2 u3) ∧ V.cell? ⟨k1, 5, none⟩ = some (.string qb) ∧ V.cell? ⟨k2, 0, none⟩ = some (.int .i64 n) ∧ V.cell? ⟨k2, 1, none⟩ = some (.slice v1 v2 v3) ∧ V.cell? ⟨k2, 2, none⟩ = some (.string rb))) (by kernel_rfl) (hS12.out _ hIW) (fun hHeld => ?_)
            generalize hWg : World.drew _ = W12 at hIW hHeld ⊢
            clear hWg
            refine wpAnyH_take (i := 0) (oi := { dst := some 99, op := Op.move (Operand.tmp 0), type := 66, pos := "ref.go:100", after := #[], guard := none }) (v := ?vv42) rfl (by kernel_rfl) (by kernel_rfl) (by kernel_rfl) (fun _ _ _ h => h) (Or.inl ⟨by rfl, ?hy42⟩) (by assumption) ?_
            case hy42 => (intro w hSw; (try dsimp only at hSw); go_simp; all_goals with_reducible rfl)
            try simp only [Act.put, List.setIfInBounds_toArray, List.set_cons_zero, List.set_cons_succ]
            refine wpAnyH_take (i := 1) (oi := { dst := some 100, op := Op.move (Operand.tmp 0), type := 66, pos := "ref.go:100", after := #[], guard := none }) (v := ?vv43) rfl (by kernel_rfl) (by kernel_rfl) (by kernel_rfl) (fun _ _ _ h => h) (Or.inl ⟨by rfl, ?hy43⟩) (by assumption) ?_
            case hy43 => (intro w hSw; (try dsimp only at hSw); go_simp; all_goals with_reducible rfl)
            try simp only [Act.put, List.setIfInBounds_toArray, List.set_cons_zero, List.set_cons_succ]
            refine wpAnyH_take (i := 2) (oi := { dst := some 101, op := Op.nilCheck (Operand.tmp 100), type := 0, pos := "ref.go:100", after := #[{ on := 1, ground := Ground.data }], guard := none }) (v := ?vv44) rfl (by kernel_rfl) (by kernel_rfl) (by kernel_rfl) (fun _ _ _ h => h) (Or.inl ⟨by rfl, ?hy44⟩) (by assumption) ?_
            case hy44 => (intro w hSw; (try dsimp only at hSw); go_simp; all_goals with_reducible rfl)
            try simp only [Act.put, List.setIfInBounds_toArray, List.set_cons_zero, List.set_cons_succ]
            refine wpAnyH_take (i := 3) (oi := { dst := some 102, op := Op.fieldAddr 100 (Operand.tmp 101) 1, type := 0, pos := "ref.go:100", after := #[{ on := 2, ground := Ground.data }], guard := none }) (v := ?vv45) rfl (by kernel_rfl) (by kernel_rfl) (by kernel_rfl) (fun _ _ _ h => h) (Or.inl ⟨by rfl, ?hy45⟩) (by assumption) ?_
            case hy45 => (intro w hSw; (try dsimp only at hSw); go_simp; all_goals with_reducible rfl)
            try simp only [Act.put, List.setIfInBounds_toArray, List.set_cons_zero, List.set_cons_succ]
            refine wpAnyH_take (i := 5) (oi := { dst := some 104, op := Op.load 24 (Operand.tmp 15), type := 24, pos := "ref.go:100", after := #[], guard := none }) (v := ?vv46) rfl (by kernel_rfl) (by kernel_rfl) (by kernel_rfl) (fun _ _ _ h => h) (Or.inl ⟨by rfl, ?hy46⟩) (by assumption) ?_
            case hy46 => (intro w hSw; (try dsimp only at hSw); go_simp; all_goals with_reducible rfl)
            try simp only [Act.put, List.setIfInBounds_toArray, List.set_cons_zero, List.set_cons_succ]
            refine wpAnyH_take (i := 6) (oi := { dst := some 105, op := Op.load 26 (Operand.tmp 16), type := 26, pos := "ref.go:100", after := #[], guard := none }) (v := ?vv47) rfl (by kernel_rfl) (by kernel_rfl) (by kernel_rfl) (fun _ _ _ h => h) (Or.inl ⟨by rfl, ?hy47⟩) (by assumption) ?_
            case hy47 => (intro w hSw; (try dsimp only at hSw); go_simp; all_goals with_reducible rfl)
            try simp only [Act.put, List.setIfInBounds_toArray, List.set_cons_zero, List.set_cons_succ]
            refine wpAnyH_take (i := 7) (oi := { dst := some 106, op := Op.move (Operand.tmp 3), type := 2, pos := "ref.go:100", after := #[], guard := none }) (v := ?vv48) rfl (by kernel_rfl) (by kernel_rfl) (by kernel_rfl) (fun _ _ _ h => h) (Or.inl ⟨by rfl, ?hy48⟩) (by assumption) ?_
            case hy48 => (intro w hSw; (try dsimp only at hSw); go_simp; all_goals with_reducible rfl)
            try simp only [Act.put, List.setIfInBounds_toArray, List.set_cons_zero, List.set_cons_succ]
            refine wpAnyH_take (i := 8) (oi := { dst := some 107, op := Op.move (Operand.tmp 0), type := 66, pos := "ref.go:100", after := #[], guard := none }) (v := ?vv49) rfl (by kernel_rfl) (by kernel_rfl) (by kernel_rfl) (fun _ _ _ h => h) (Or.inl ⟨by rfl, ?hy49⟩) (by assumption) ?_
            case hy49 => (intro w hSw; (try dsimp only at hSw); go_simp; all_goals with_reducible rfl)
            try simp only [Act.put, List.setIfInBounds_toArray, List.set_cons_zero, List.set_cons_succ]
            refine wpAnyH_take (i := 9) (oi := { dst := some 108, op := Op.nilCheck (Operand.tmp 107), type := 0, pos := "ref.go:100", after := #[{ on := 8, ground := Ground.data }], guard := none }) (v := ?vv50) rfl (by kernel_rfl) (by kernel_rfl) (by kernel_rfl) (fun _ _ _ h => h) (Or.inl ⟨by rfl, ?hy50⟩) (by assumption) ?_
            case hy50 => (intro w hSw; (try dsimp only at hSw); go_simp; all_goals with_reducible rfl)
            try simp only [Act.put, List.setIfInBounds_toArray, List.set_cons_zero, List.set_cons_succ]
            refine wpAnyH_take (i := 10) (oi := { dst := some 109, op := Op.fieldAddr 100 (Operand.tmp 108) 2, type := 0, pos := "ref.go:100", after := #[{ on := 9, ground := Ground.data }], guard := none }) (v := ?vv51) rfl (by kernel_rfl) (by kernel_rfl) (by kernel_rfl) (fun _ _ _ h => h) (Or.inl ⟨by rfl, ?hy51⟩) (by assumption) ?_
            case hy51 => (intro w hSw; (try dsimp only at hSw); go_simp; all_goals with_reducible rfl)
            try simp only [Act.put, List.setIfInBounds_toArray, List.set_cons_zero, List.set_cons_succ]
            refine wpAnyH_take (i := 11) (oi := { dst := some 110, op := Op.load 2 (Operand.tmp 109), type := 2, pos := "ref.go:100", after := #[{ on := 10, ground := Ground.data }], guard := none }) (v := ?vv52) rfl (by kernel_rfl) (by kernel_rfl) (by kernel_rfl) (fun _ _ _ h => h) (Or.inl ⟨by rfl, ?hy52⟩) (by assumption) ?_
            case hy52 => (intro w hSw; (try dsimp only at hSw); go_simp; all_goals with_reducible rfl)
            try simp only [Act.put, List.setIfInBounds_toArray, List.set_cons_zero, List.set_cons_succ]
            refine wpAnyH_take (i := 12) (oi := { dst := some 111, op := Op.build 119 #[(0, Operand.tmp 104), (1, Operand.tmp 105), (2, Operand.tmp 106), (3, Operand.tmp 110)], type := 119, pos := "ref.go:100", after := #[{ on := 5, ground := Ground.data }, { on := 6, ground := Ground.data }, { on := 7, ground := Ground.data }, { on := 11, ground := Ground.data }], guard := none }) (v := ?vv53) rfl (by kernel_rfl) (by kernel_rfl) (by kernel_rfl) (fun _ _ _ h => h) (Or.inl ⟨by rfl, ?hy53⟩) (by assumption) ?_
            case hy53 => (intro w hSw; (try dsimp only at hSw); go_simp; all_goals with_reducible rfl)
            try simp only [Act.put, List.setIfInBounds_toArray, List.set_cons_zero, List.set_cons_succ]
            refine wpAnyH_ready (rs := [4, 13]) (by kernel_rfl) (by simp) ?_
            refine AllReadyH.cons (o := { dst := some 103, op := Op.load 98 (Operand.tmp 102), type := 98, pos := "ref.go:100", after := #[{ on := 3, ground := Ground.data }], guard := none }) rfl (fun K hK => ?_) ?_
            · have pc : W12.cell? ⟨b, 4, none⟩ = some (.slice s1 s2 s3) := (HC12.out.1.below hIW).rc.cells.2.2.2.2.1
              go_simp
              go_wp2_with fail
              refine hK.out _ _ (hS12.out _ hIW) (fun hHeld => ?_)
              clear hK K pc
              try simp only [Act.put, List.setIfInBounds_toArray, List.set_cons_zero, List.set_cons_succ]
              refine wpAnyH_ready (rs := [13]) (by kernel_rfl) (by simp) ?_
              refine AllReadyH.cons (o := { dst := some 112, op := Op.buildSlice 98 1 #[(0, Operand.tmp 111)], type := 98, pos := "ref.go:100", after := #[{ on := 12, ground := Ground.data }], guard := none }) rfl (fun K hK => ?_) AllReadyH.nil
              obtain ⟨q8, hq8⟩ : ∃ q, W12.heap.size = q := ⟨_, rfl⟩
              obtain ⟨W12xx, hV0⟩ : ∃ V, W12.alloc (.cells #[.string m, .string s, .string a, .string p, .slice u1 u2 u3, .string qb, .int .i64 n, .slice v1 v2 v3, .string rb, .int .i64 st, .int .i64 n1] 119) = V := ⟨_, rfl⟩
              have b0x : Below W12.heap.size W12 W12xx := by rw [← hV0]; exact bel1 _ _
              have hW12xx : Below V12.heap.size V12 W12xx := hIW.trans (b0x.mono hIW.size)
              have HI8 : Hid (In EV W12xx (.slice (some ⟨q8, 0, none⟩) 1 1) [(⟨st, n1, ⟨m, s, a, p, (u1, u2, u3), qb⟩, n, (v1, v2, v3), rb, Q, fr⟩ : Kn)]) := by rw [← hV0, ← hq8]; exact in_one (E := EV) _ _ (⟨st, n1, ⟨m, s, a, p, (u1, u2, u3), qb⟩, n, (v1, v2, v3), rb, Q, fr⟩ : Kn) #[.string m, .string s, .string a, .string p, .slice u1 u2 u3, .string qb, .int .i64 n, .slice v1 v2 v3, .string rb, .int .i64 st, .int .i64 n1] 119 (0, 0) (by rw [heap_al, if_pos rfl]) rfl
              clear b0x
              go_simp
              go_wp2_with fail
              try rw [hV0]
              try rw [hq8]
              refine hK.out _ _ (hS12.out _ hW12xx) (fun hHeld => ?_)
              clear hK K hV0 hq8
              try simp only [Act.put, List.setIfInBounds_toArray, List.set_cons_zero, List.set_cons_succ]
              refine wpAnyH_ready (rs := [14]) (by kernel_rfl) (by simp) ?_
              refine AllReadyH.cons (o := { dst := some 113, op := Op.call { callee := Callee.builtin Builtin.append, args := #[Operand.tmp 103, Operand.tmp 112], argTypes := #[98, 98] }, type := 98, pos := "ref.go:100", after := #[{ on := 4, ground := Ground.data }, { on := 13, ground := Ground.data }], guard := none }) rfl (fun K hK => ?_) AllReadyH.nil
              have hXV := HC12.out.1.below hW12xx
              obtain ⟨b2, c2, w7, hrun, hR2, hG2⟩ := app okV W12xx (.slice s1 s2 s3) M hXV.rc.row (.slice (some ⟨q8, 0, none⟩) 1 1) [(⟨st, n1, ⟨m, s, a, p, (u1, u2, u3), qb⟩, n, (v1, v2, v3), rb, Q, fr⟩ : Kn)] HI8.out (by have := HML.out.1; simp only [EV, List.length_singleton]; omega)
              have el : M.length + [(⟨st, n1, ⟨m, s, a, p, (u1, u2, u3), qb⟩, n, (v1, v2, v3), rb, Q, fr⟩ : Kn)].length = s2 + 1 := by rw [HSl.out]; rfl
              rw [el] at hrun hR2 hG2
              have hP := hXV.push (y2 := (b2, s2 + 1, c2)) (⟨st, n1, ⟨m, s, a, p, (u1, u2, u3), qb⟩, n, (v1, v2, v3), rb, Q, fr⟩ : Kn) (HC12.out.2.2.2.1.below hW12xx) (HC12.out.2.2.2.2.1.below hW12xx) hR2 hG2
              have hown : ∀ (k : Nat) (cc : Array Value) (t : TypeId) (fz : Nat × Nat), W12xx.heap[k]? = some (.cells cc t fz) → t ≠ 119 → w7.heap[k]? = W12xx.heap[k]? := fun k cc t fz hk ht => hG2.block k (heap_lt hk) fun e => by
                obtain ⟨cd, hd⟩ := hXV.rc.row.ty k e
                exact ty_ne hk hd ht rfl
              have hq2 := (hW12xx.block _ (heap_lt HC12.out.2.1)).trans HC12.out.2.1
              have hr2 := (hW12xx.block _ (heap_lt HC12.out.2.2.1)).trans HC12.out.2.2.1
              have HBlk : Hid (w7.heap[b]? = some (.cells (rcv me mb lf pd (s1, s2, s3) n1) 100 (0, 0)) ∧ w7.heap[k1]? = some (.cells #[.string m, .string s, .string a, .string p, .slice u1 u2 u3, .string qb] 24 (0, 0)) ∧ w7.heap[k2]? = some (.cells #[.int .i64 n, .slice v1 v2 v3, .string rb] 26 (0, 0))) := ⟨hP.2.2.2.2.trans hXV.rc.blk, (hown _ _ _ _ hq2 (by decide)).trans hq2, (hown _ _ _ _ hr2 (by decide)).trans hr2⟩
              have HSn : Hid ((fun V => V.cell? ⟨b, 5, none⟩ = some (.int .i64 n1) ∧ V.cell? ⟨k1, 0, none⟩ = some (.string m) ∧ V.cell? ⟨k1, 1, none⟩ = some (.string s) ∧ V.cell? ⟨k1, 2, none⟩ = some (.string a) ∧ V.cell? ⟨k1, 3, none⟩ = some (.string p) ∧ V.cell? ⟨k1, 4, none⟩ = some (.slice u1 u2 u3) ∧ V.cell? ⟨k1, 5, none⟩ = some (.string qb) ∧ V.cell? ⟨k2, 0, none⟩ = some (.int .i64 n) ∧ V.cell? ⟨k2, 1, none⟩ = some (.slice v1 v2 v3) ∧ V.cell? ⟨k2, 2, none⟩ = some (.string rb)) w7) := ⟨cell_blk HBlk.out.1 5, cell_blk HBlk.out.2.1 0, cell_blk HBlk.out.2.1 1, cell_blk HBlk.out.2.1 2, cell_blk HBlk.out.2.1 3, cell_blk HBlk.out.2.1 4, cell_blk HBlk.out.2.1 5, cell_blk HBlk.out.2.2 0, cell_blk HBlk.out.2.2 1, cell_blk HBlk.out.2.2 2⟩
              have HP : Hid (Rc (w7.setCell ⟨b, 4, none⟩ (.slice b2 (s2 + 1) c2)) b me mb lf pd (b2, s2 + 1, c2) (M ++ [(⟨st, n1, ⟨m, s, a, p, (u1, u2, u3), qb⟩, n, (v1, v2, v3), rb, Q, fr⟩ : Kn)]) n1 ∧ R EI (w7.setCell ⟨b, 4, none⟩ (.slice b2 (s2 + 1) c2)) (.slice g1 g2 g3) (D0 ++ L1.map (·.st)) ∧ Ks (fun k => k = b) W (w7.setCell ⟨b, 4, none⟩ (.slice b2 (s2 + 1) c2)) ∧ (∀ k, (Value.slice b2 (s2 + 1) c2).ownBlock = some k → W.heap.size ≤ k)) := ⟨hP.1, hP.2.1, hP.2.2.1, hP.2.2.2.1⟩
              clear hown hXV hR2 hG2 el hq2 hr2 hP
              refine step_append_run rfl (.tmp 103) (.tmp 112) 98 98 rfl hrun (by first | rfl | simp [Act.eval, Act.put]) (by first | rfl | simp [Act.eval, Act.put]) ?_
              refine hK.out _ _ HSn.out (fun hHeld => ?_)
              clear hK K hrun
              try simp only [Act.put, List.setIfInBounds_toArray, List.set_cons_zero, List.set_cons_succ]
              refine wpAnyH_take (i := 15) (oi := { dst := some 114, op := Op.nilCheck (Operand.tmp 99), type := 0, pos := "ref.go:100", after := #[{ on := 0, ground := Ground.data }, { on := 0, ground := Ground.phase }, { on := 1, ground := Ground.phase }, { on := 2, ground := Ground.phase }, { on := 3, ground := Ground.phase }, { on := 4, ground := Ground.phase }, { on := 5, ground := Ground.phase }, { on := 6, ground := Ground.phase }, { on := 7, ground := Ground.phase }, { on := 8, ground := Ground.phase }, { on := 9, ground := Ground.phase }, { on := 10, ground := Ground.phase }, { on := 11, ground := Ground.phase }, { on := 12, ground := Ground.phase }, { on := 13, ground := Ground.phase }, { on := 14, ground := Ground.phase }], guard := none }) (v := ?vv54) rfl (by kernel_rfl) (by kernel_rfl) (by kernel_rfl) (fun _ _ _ h => h) (Or.inl ⟨by rfl, ?hy54⟩) (by assumption) ?_
              case hy54 => (intro w hSw; (try dsimp only at hSw); go_simp; all_goals with_reducible rfl)
              try simp only [Act.put, List.setIfInBounds_toArray, List.set_cons_zero, List.set_cons_succ]
              refine wpAnyH_take (i := 16) (oi := { dst := some 115, op := Op.fieldAddr 100 (Operand.tmp 114) 1, type := 0, pos := "ref.go:100", after := #[{ on := 15, ground := Ground.data }, { on := 0, ground := Ground.phase }, { on := 1, ground := Ground.phase }, { on := 2, ground := Ground.phase }, { on := 3, ground := Ground.phase }, { on := 4, ground := Ground.phase }, { on := 5, ground := Ground.phase }, { on := 6, ground := Ground.phase }, { on := 7, ground := Ground.phase }, { on := 8, ground := Ground.phase }, { on := 9, ground := Ground.phase }, { on := 10, ground := Ground.phase }, { on := 11, ground := Ground.phase }, { on := 12, ground := Ground.phase }, { on := 13, ground := Ground.phase }, { on := 14, ground := Ground.phase }], guard := none }) (v := ?vv55) rfl (by kernel_rfl) (by kernel_rfl) (by kernel_rfl) (fun _ _ _ h => h) (Or.inl ⟨by rfl, ?hy55⟩) (by assumption) ?_
              case hy55 => (intro w hSw; (try dsimp only at hSw); go_simp; all_goals with_reducible rfl)
              try simp only [Act.put, List.setIfInBounds_toArray, List.set_cons_zero, List.set_cons_succ]
              refine wpAnyH_ready (rs := [17]) (by kernel_rfl) (by simp) ?_
              refine AllReadyH.cons (o := { dst := none, op := Op.store 98 (Operand.tmp 115) (Operand.tmp 113), type := 0, pos := "ref.go:100", after := #[{ on := 16, ground := Ground.data }, { on := 14, ground := Ground.data }, { on := 14, ground := Ground.chain }, { on := 0, ground := Ground.phase }, { on := 1, ground := Ground.phase }, { on := 2, ground := Ground.phase }, { on := 3, ground := Ground.phase }, { on := 4, ground := Ground.phase }, { on := 5, ground := Ground.phase }, { on := 6, ground := Ground.phase }, { on := 7, ground := Ground.phase }, { on := 8, ground := Ground.phase }, { on := 9, ground := Ground.phase }, { on := 10, ground := Ground.phase }, { on := 11, ground := Ground.phase }, { on := 12, ground := Ground.phase }, { on := 13, ground := Ground.phase }, { on := 14, ground := Ground.phase }], guard := none }) rfl (fun K hK => ?_) AllReadyH.nil
              obtain ⟨E8, hE8⟩ : ∃ E, w7.setCell ⟨b, 4, none⟩ (.slice b2 (s2 + 1) c2) = E := ⟨_, rfl⟩
              have hP1 := HP.out
              rw [hE8] at hP1
              have HSe : Hid ((fun V => V.cell? ⟨b, 5, none⟩ = some (.int .i64 n1) ∧ V.cell? ⟨k1, 0, none⟩ = some (.string m) ∧ V.cell? ⟨k1, 1, none⟩ = some (.string s) ∧ V.cell? ⟨k1, 2, none⟩ = some (.string a) ∧ V.cell? ⟨k1, 3, none⟩ = some (.string p) ∧ V.cell? ⟨k1, 4, none⟩ = some (.slice u1 u2 u3) ∧ V.cell? ⟨k1, 5, none⟩ = some (.string qb) ∧ V.cell? ⟨k2, 0, none⟩ = some (.int .i64 n) ∧ V.cell? ⟨k2, 1, none⟩ = some (.slice v1 v2 v3) ∧ V.cell? ⟨k2, 2, none⟩ = some (.string rb)) E8) := by
                have e1 : E8.heap[k1]? = w7.heap[k1]? := by rw [← hE8]; exact setCell_other _ _ _ _ _ (ty_ne HBlk.out.2.1 HBlk.out.1 (by decide))
                have e2 : E8.heap[k2]? = w7.heap[k2]? := by rw [← hE8]; exact setCell_other _ _ _ _ _ (ty_ne HBlk.out.2.2 HBlk.out.1 (by decide))
                have h1 := e1.trans HBlk.out.2.1
                have h2 := e2.trans HBlk.out.2.2
                exact ⟨cell_blk hP1.1.blk 5, cell_blk h1 0, cell_blk h1 1, cell_blk h1 2, cell_blk h1 3, cell_blk h1 4, cell_blk h1 5, cell_blk h2 0, cell_blk h2 1, cell_blk h2 2⟩
              have HE : Hid (rstP W E8 b me mb lf pd B n1 ⟨m, s, a, p, (y1, y2, y3), qb⟩ Q n rb fr st (.returned (.tuple #[.bool true, .slice g1 g2 g3]))) := by
                refine .inr ⟨HNk.out.1, (g1, g2, g3), (b2, s2 + 1, c2), (u1, u2, u3), (v1, v2, v3), rfl, ?_, ?_, hP1.2.2.1, HC12.out.1.ng, hP1.2.2.2, HC12.out.2.2.2.2.2.1, HC12.out.2.2.2.2.2.2⟩
                · rw [HMD.out.1, HZz.out.1, HEv.out.1]; exact hP1.1
                · rw [HMD.out.1, HMD.out.2.1, HZz.out.1, HEv.out.2]; exact hP1.2.1
              have po := cell_blk HBlk.out.1 4
              have pz := frozen_blk HBlk.out.1 4
              simp only [rcv, List.getElem?_toArray, List.getElem?_cons_succ, List.getElem?_cons_zero, sv] at po
              clear HP hP1
              go_simp
              go_wp2_with fail
              try rw [hE8]
              refine hK.out _ _ HSe.out (fun hHeld => ?_)
              clear hK K po pz hE8 HSn
              try simp only [Act.put, List.setIfInBounds_toArray, List.set_cons_zero, List.set_cons_succ]
              refine wpAnyH_done (by kernel_rfl) ?_ _
              clear hHeld hS12
              go_wp2_with fail
              go_ret2
              exact HE.out
            refine AllReadyH.cons (o := { dst := some 112, op := Op.buildSlice 98 1 #[(0, Operand.tmp 111)], type := 98, pos := "ref.go:100", after := #[{ on := 12, ground := Ground.data }], guard := none }) rfl (fun K hK => ?_) AllReadyH.nil
            obtain ⟨q8, hq8⟩ : ∃ q, W12.heap.size = q := ⟨_, rfl⟩
            obtain ⟨W12x, hV0⟩ : ∃ V, W12.alloc (.cells #[.string m, .string s, .string a, .string p, .slice u1 u2 u3, .string qb, .int .i64 n, .slice v1 v2 v3, .string rb, .int .i64 st, .int .i64 n1] 119) = V := ⟨_, rfl⟩
            have b0x : Below W12.heap.size W12 W12x := by rw [← hV0]; exact bel1 _ _
            have hW12x : Below V12.heap.size V12 W12x := hIW.trans (b0x.mono hIW.size)
            have HI8 : Hid (In EV W12x (.slice (some ⟨q8, 0, none⟩) 1 1) [(⟨st, n1, ⟨m, s, a, p, (u1, u2, u3), qb⟩, n, (v1, v2, v3), rb, Q, fr⟩ : Kn)]) := by rw [← hV0, ← hq8]; exact in_one (E := EV) _ _ (⟨st, n1, ⟨m, s, a, p, (u1, u2, u3), qb⟩, n, (v1, v2, v3), rb, Q, fr⟩ : Kn) #[.string m, .string s, .string a, .string p, .slice u1 u2 u3, .string qb, .int .i64 n, .slice v1 v2 v3, .string rb, .int .i64 st, .int .i64 n1] 119 (0, 0) (by rw [heap_al, if_pos rfl]) rfl
            clear b0x
            go_simp
            go_wp2_with fail
            try rw [hV0]
            try rw [hq8]
            refine hK.out _ _ (hS12.out _ hW12x) (fun hHeld => ?_)
            clear hK K hV0 hq8
            try simp only [Act.put, List.setIfInBounds_toArray, List.set_cons_zero, List.set_cons_succ]
            refine wpAnyH_ready (rs := [4]) (by kernel_rfl) (by simp) ?_
            refine AllReadyH.cons (o := { dst := some 103, op := Op.load 98 (Operand.tmp 102), type := 98, pos := "ref.go:100", after := #[{ on := 3, ground := Ground.data }], guard := none }) rfl (fun K hK => ?_) AllReadyH.nil
            have pc : W12x.cell? ⟨b, 4, none⟩ = some (.slice s1 s2 s3) := (HC12.out.1.below hW12x).rc.cells.2.2.2.2.1
            go_simp
            go_wp2_with fail
            refine hK.out _ _ (hS12.out _ hW12x) (fun hHeld => ?_)
            clear hK K pc
            try simp only [Act.put, List.setIfInBounds_toArray, List.set_cons_zero, List.set_cons_succ]
            refine wpAnyH_ready (rs := [14]) (by kernel_rfl) (by simp) ?_
            refine AllReadyH.cons (o := { dst := some 113, op := Op.call { callee := Callee.builtin Builtin.append, args := #[Operand.tmp 103, Operand.tmp 112], argTypes := #[98, 98] }, type := 98, pos := "ref.go:100", after := #[{ on := 4, ground := Ground.data }, { on := 13, ground := Ground.data }], guard := none }) rfl (fun K hK => ?_) AllReadyH.nil
            have hXV := HC12.out.1.below hW12x
            obtain ⟨b2, c2, w7, hrun, hR2, hG2⟩ := app okV W12x (.slice s1 s2 s3) M hXV.rc.row (.slice (some ⟨q8, 0, none⟩) 1 1) [(⟨st, n1, ⟨m, s, a, p, (u1, u2, u3), qb⟩, n, (v1, v2, v3), rb, Q, fr⟩ : Kn)] HI8.out (by have := HML.out.1; simp only [EV, List.length_singleton]; omega)
            have el : M.length + [(⟨st, n1, ⟨m, s, a, p, (u1, u2, u3), qb⟩, n, (v1, v2, v3), rb, Q, fr⟩ : Kn)].length = s2 + 1 := by rw [HSl.out]; rfl
            rw [el] at hrun hR2 hG2
            have hP := hXV.push (y2 := (b2, s2 + 1, c2)) (⟨st, n1, ⟨m, s, a, p, (u1, u2, u3), qb⟩, n, (v1, v2, v3), rb, Q, fr⟩ : Kn) (HC12.out.2.2.2.1.below hW12x) (HC12.out.2.2.2.2.1.below hW12x) hR2 hG2
            have hown : ∀ (k : Nat) (cc : Array Value) (t : TypeId) (fz : Nat × Nat), W12x.heap[k]? = some (.cells cc t fz) → t ≠ 119 → w7.heap[k]? = W12x.heap[k]? := fun k cc t fz hk ht => hG2.block k (heap_lt hk) fun e => by
              obtain ⟨cd, hd⟩ := hXV.rc.row.ty k e
              exact ty_ne hk hd ht rfl
            have hq2 := (hW12x.block _ (heap_lt HC12.out.2.1)).trans HC12.out.2.1
            have hr2 := (hW12x.block _ (heap_lt HC12.out.2.2.1)).trans HC12.out.2.2.1
            have HBlk : Hid (w7.heap[b]? = some (.cells (rcv me mb lf pd (s1, s2, s3) n1) 100 (0, 0)) ∧ w7.heap[k1]? = some (.cells #[.string m, .string s, .string a, .string p, .slice u1 u2 u3, .string qb] 24 (0, 0)) ∧ w7.heap[k2]? = some (.cells #[.int .i64 n, .slice v1 v2 v3, .string rb] 26 (0, 0))) := ⟨hP.2.2.2.2.trans hXV.rc.blk, (hown _ _ _ _ hq2 (by decide)).trans hq2, (hown _ _ _ _ hr2 (by decide)).trans hr2⟩
            have HSn : Hid ((fun V => V.cell? ⟨b, 5, none⟩ = some (.int .i64 n1) ∧ V.cell? ⟨k1, 0, none⟩ = some (.string m) ∧ V.cell? ⟨k1, 1, none⟩ = some (.string s) ∧ V.cell? ⟨k1, 2, none⟩ = some (.string a) ∧ V.cell? ⟨k1, 3, none⟩ = some (.string p) ∧ V.cell? ⟨k1, 4, none⟩ = some (.slice u1 u2 u3) ∧ V.cell? ⟨k1, 5, none⟩ = some (.string qb) ∧ V.cell? ⟨k2, 0, none⟩ = some (.int .i64 n) ∧ V.cell? ⟨k2, 1, none⟩ = some (.slice v1 v2 v3) ∧ V.cell? ⟨k2, 2, none⟩ = some (.string rb)) w7) := ⟨cell_blk HBlk.out.1 5, cell_blk HBlk.out.2.1 0, cell_blk HBlk.out.2.1 1, cell_blk HBlk.out.2.1 2, cell_blk HBlk.out.2.1 3, cell_blk HBlk.out.2.1 4, cell_blk HBlk.out.2.1 5, cell_blk HBlk.out.2.2 0, cell_blk HBlk.out.2.2 1, cell_blk HBlk.out.2.2 2⟩
            have HP : Hid (Rc (w7.setCell ⟨b, 4, none⟩ (.slice b2 (s2 + 1) c2)) b me mb lf pd (b2, s2 + 1, c2) (M ++ [(⟨st, n1, ⟨m, s, a, p, (u1, u2, u3), qb⟩, n, (v1, v2, v3), rb, Q, fr⟩ : Kn)]) n1 ∧ R EI (w7.setCell ⟨b, 4, none⟩ (.slice b2 (s2 + 1) c2)) (.slice g1 g2 g3) (D0 ++ L1.map (·.st)) ∧ Ks (fun k => k = b) W (w7.setCell ⟨b, 4, none⟩ (.slice b2 (s2 + 1) c2)) ∧ (∀ k, (Value.slice b2 (s2 + 1) c2).ownBlock = some k → W.heap.size ≤ k)) := ⟨hP.1, hP.2.1, hP.2.2.1, hP.2.2.2.1⟩
            clear hown hXV hR2 hG2 el hq2 hr2 hP
            refine step_append_run rfl (.tmp 103) (.tmp 112) 98 98 rfl hrun (by first | rfl | simp [Act.eval, Act.put]) (by first | rfl | simp [Act.eval, Act.put]) ?_
            refine hK.out _ _ HSn.out (fun hHeld => ?_)
            clear hK K hrun
            try simp only [Act.put, List.setIfInBounds_toArray, List.set_cons_zero, List.set_cons_succ]
            refine wpAnyH_take (i := 15) (oi := { dst := some 114, op := Op.nilCheck (Operand.tmp 99), type := 0, pos := "ref.go:100", after := #[{ on := 0, ground := Ground.data }, { on := 0, ground := Ground.phase }, { on := 1, ground := Ground.phase }, { on := 2, ground := Ground.phase }, { on := 3, ground := Ground.phase }, { on := 4, ground := Ground.phase }, { on := 5, ground := Ground.phase }, { on := 6, ground := Ground.phase }, { on := 7, ground := Ground.phase }, { on := 8, ground := Ground.phase }, { on := 9, ground := Ground.phase }, { on := 10, ground := Ground.phase }, { on := 11, ground := Ground.phase }, { on := 12, ground := Ground.phase }, { on := 13, ground := Ground.phase }, { on := 14, ground := Ground.phase }], guard := none }) (v := ?vv56) rfl (by kernel_rfl) (by kernel_rfl) (by kernel_rfl) (fun _ _ _ h => h) (Or.inl ⟨by rfl, ?hy56⟩) (by assumption) ?_
            case hy56 => (intro w hSw; (try dsimp only at hSw); go_simp; all_goals with_reducible rfl)
            try simp only [Act.put, List.setIfInBounds_toArray, List.set_cons_zero, List.set_cons_succ]
            refine wpAnyH_take (i := 16) (oi := { dst := some 115, op := Op.fieldAddr 100 (Operand.tmp 114) 1, type := 0, pos := "ref.go:100", after := #[{ on := 15, ground := Ground.data }, { on := 0, ground := Ground.phase }, { on := 1, ground := Ground.phase }, { on := 2, ground := Ground.phase }, { on := 3, ground := Ground.phase }, { on := 4, ground := Ground.phase }, { on := 5, ground := Ground.phase }, { on := 6, ground := Ground.phase }, { on := 7, ground := Ground.phase }, { on := 8, ground := Ground.phase }, { on := 9, ground := Ground.phase }, { on := 10, ground := Ground.phase }, { on := 11, ground := Ground.phase }, { on := 12, ground := Ground.phase }, { on := 13, ground := Ground.phase }, { on := 14, ground := Ground.phase }], guard := none }) (v := ?vv57) rfl (by kernel_rfl) (by kernel_rfl) (by kernel_rfl) (fun _ _ _ h => h) (Or.inl ⟨by rfl, ?hy57⟩) (by assumption) ?_
            case hy57 => (intro w hSw; (try dsimp only at hSw); go_simp; all_goals with_reducible rfl)
            try simp only [Act.put, List.setIfInBounds_toArray, List.set_cons_zero, List.set_cons_succ]
            refine wpAnyH_ready (rs := [17]) (by kernel_rfl) (by simp) ?_
            refine AllReadyH.cons (o := { dst := none, op := Op.store 98 (Operand.tmp 115) (Operand.tmp 113), type := 0, pos := "ref.go:100", after := #[{ on := 16, ground := Ground.data }, { on := 14, ground := Ground.data }, { on := 14, ground := Ground.chain }, { on := 0, ground := Ground.phase }, { on := 1, ground := Ground.phase }, { on := 2, ground := Ground.phase }, { on := 3, ground := Ground.phase }, { on := 4, ground := Ground.phase }, { on := 5, ground := Ground.phase }, { on := 6, ground := Ground.phase }, { on := 7, ground := Ground.phase }, { on := 8, ground := Ground.phase }, { on := 9, ground := Ground.phase }, { on := 10, ground := Ground.phase }, { on := 11, ground := Ground.phase }, { on := 12, ground := Ground.phase }, { on := 13, ground := Ground.phase }, { on := 14, ground := Ground.phase }], guard := none }) rfl (fun K hK => ?_) AllReadyH.nil
            obtain ⟨E8, hE8⟩ : ∃ E, w7.setCell ⟨b, 4, none⟩ (.slice b2 (s2 + 1) c2) = E := ⟨_, rfl⟩
            have hP1 := HP.out
            rw [hE8] at hP1
            have HSe : Hid ((fun V => V.cell? ⟨b, 5, none⟩ = some (.int .i64 n1) ∧ V.cell? ⟨k1, 0, none⟩ = some (.string m) ∧ V.cell? ⟨k1, 1, none⟩ = some (.string s) ∧ V.cell? ⟨k1, 2, none⟩ = some (.string a) ∧ V.cell? ⟨k1, 3, none⟩ = some (.string p) ∧ V.cell? ⟨k1, 4, none⟩ = some (.slice u1 u2 u3) ∧ V.cell? ⟨k1, 5, none⟩ = some (.string qb) ∧ V.cell? ⟨k2, 0, none⟩ = some (.int .i64 n) ∧ V.cell? ⟨k2, 1, none⟩ = some (.slice v1 v2 v3) ∧ V.cell? ⟨k2, 2, none⟩ = some (.string rb)) E8) := by
              have e1 : E8.heap[k1]? = w7.heap[k1]? := by rw [← hE8]; exact setCell_other _ _ _ _ _ (ty_ne HBlk.out.2.1 HBlk.out.1 (by decide))
              have e2 : E8.heap[k2]? = w7.heap[k2]? := by rw [← hE8]; exact setCell_other _ _ _ _ _ (ty_ne HBlk.out.2.2 HBlk.out.1 (by decide))
              have h1 := e1.trans HBlk.out.2.1
              have h2 := e2.trans HBlk.out.2.2
              exact ⟨cell_blk hP1.1.blk 5, cell_blk h1 0, cell_blk h1 1, cell_blk h1 2, cell_blk h1 3, cell_blk h1 4, cell_blk h1 5, cell_blk h2 0, cell_blk h2 1, cell_blk h2 2⟩
            have HE : Hid (rstP W E8 b me mb lf pd B n1 ⟨m, s, a, p, (y1, y2, y3), qb⟩ Q n rb fr st (.returned (.tuple #[.bool true, .slice g1 g2 g3]))) := by
              refine .inr ⟨HNk.out.1, (g1, g2, g3), (b2, s2 + 1, c2), (u1, u2, u3), (v1, v2, v3), rfl, ?_, ?_, hP1.2.2.1, HC12.out.1.ng, hP1.2.2.2, HC12.out.2.2.2.2.2.1, HC12.out.2.2.2.2.2.2⟩
              · rw [HMD.out.1, HZz.out.1, HEv.out.1]; exact hP1.1
              · rw [HMD.out.1, HMD.out.2.1, HZz.out.1, HEv.out.2]; exact hP1.2.1
            have po := cell_blk HBlk.out.1 4
            have pz := frozen_blk HBlk.out.1 4
            simp only [rcv, List.getElem?_toArray, List.getElem?_cons_succ, List.getElem?_cons_zero, sv] at po
            clear HP hP1
            go_simp
            go_wp2_with fail
            try rw [hE8]
            refine hK.out _ _ HSe.out (fun hHeld => ?_)
            clear hK K po pz hE8 HSn
            try simp only [Act.put, List.setIfInBounds_toArray, List.set_cons_zero, List.set_cons_succ]
            refine wpAnyH_done (by kernel_rfl) ?_ _
            clear hHeld hS12
            go_wp2_with fail
            go_ret2
            exact HE.out
          · rcases M with _ | ⟨x, M⟩
            · exfalso
              have := HLk.out
              rw [HLk0.out] at this
              cases this
            have HEv : Hid (ekL me mb zz M = ekL me mb zz M0 ∧ (L1 ++ [x]) ++ ekD me mb zz M = ekD me mb zz M0 ∧ (L1 ++ [x]) ++ M = M0) := by
              have h2 := HJ.out
              unfold ekL ekD at h2
              rw [HLk.out] at h2
              simp only [if_true] at h2
              refine ⟨?_, ?_, ?_⟩
              · rw [h2.2.1]; cases M0 <;> rfl
              · rw [List.append_assoc, List.singleton_append, h2.2.2]; cases M0 <;> rfl
              · rw [← h2.1]; simp
            obtain ⟨Bj, off, cap, e, hc⟩ := HS6.out.rc.row.isIn.ke 0 (by simp)
            simp only [sv] at e
            rw [HSl.out] at e
            injection e with e1 e2 e3
            clear e2
            subst e1 e3
            have d9 := (hc wc (Below.refl _ _)).2.2.2.2.2.2.2.2.2.1
            simp only [List.getElem_cons_zero, Nat.zero_mul, Nat.add_zero] at d9
            obtain ⟨xs, hxs⟩ : ∃ k, x.st = k := ⟨_, rfl⟩
            rw [hxs] at d9
            obtain ⟨gb, gc, w6, hrun1, hS7⟩ := HS6.out.gone xs HML.out.2.2
            have c4 := HS6.out.rc.cells.2.2.2.2.1
            have e4 := hS7.rc.cells.2.2.2.2.1
            have lb := heap_lt HS6.out.rc.blk
            have lb6 := heap_lt hS7.rc.blk
            simp only [sv] at c4 e4
            have hrow : In EV w6 (.slice (some ⟨Bj, off, none⟩) s2 s3) (x :: M) := hS7.rc.row.isIn
            have n0 : (0 : Int) < (s2 : Int) := by have := HSl.out; simp only [List.length_cons] at this; omega
            have n1' : (1 : Int) ≤ (s2 : Int) := by omega
            have n2' : (1 : Int) ≤ (s3 : Int) := by omega
            obtain ⟨zd, hzd⟩ : ∃ k, s2 - 1 = k := ⟨_, rfl⟩
            obtain ⟨zc, hzc⟩ : ∃ k, s3 - 1 = k := ⟨_, rfl⟩
            have hML : M.length = zd := by have := HSl.out; simp only [List.length_cons] at this; omega
            have key : ∀ A : Addr, (M.length = 0 ∨ A = ⟨Bj, off + 11, none⟩) → ∃ b2 c2 w7, (Builtin.append_ #[98, 98] 98 #[.slice none 0 0, .slice (some A) zd zc]).run Tryd.prog w6 = .ok (.slice b2 zd c2) w7 ∧ w7.cell? ⟨b, 4, none⟩ = some (.slice (some ⟨Bj, off, none⟩) s2 s3) ∧ w7.frozen? ⟨b, 4, none⟩ = false ∧ b < w7.heap.size ∧ Sr W (w7.setCell ⟨b, 4, none⟩ (.slice b2 zd c2)) b me mb lf pd (b2, zd, c2) M n1 (gb, g2 + 1, gc) (D0 ++ (L1 ++ [x]).map (·.st)) q0 r0 ⟨m, s, a, p, (y1, y2, y3), qb⟩ n (r1, r2, r3) rb ∧ lenAt b (w7.setCell ⟨b, 4, none⟩ (.slice b2 zd c2)) = M.length := fun A hA => by
              have hd := hrow.dropV 1 (by simp) A (by simpa using hA)
              have hl1 : (x :: M).length - 1 = zd := by simp [hML]
              rw [hl1, hzc] at hd
              obtain ⟨b2, c2, w7, r2', R2, G2⟩ := app okV w6 (.slice none 0 0) [] (R.nil EV w6) _ _ hd (by simp only [EV, List.length_nil, List.drop_succ_cons, List.drop_zero]; omega)
              have hl2 : ([] : List Kn).length + ((x :: M).drop 1).length = zd := by simp [hML]
              rw [hl2] at r2' R2 G2
              have R3 : R EV w7 (sv (b2, zd, c2)) M := by show R EV w7 (.slice b2 zd c2) M; simpa using R2
              have hc7 := (hS7.rc.below G2.fresh).cells
              have hset := hS7.setL (y' := (b2, zd, c2)) G2.fresh R3 (fun k hk => Nat.le_trans hS7.ks.size (G2.new k hk)) (fun k hk => List.mem_cons_of_mem _ hk)
              refine ⟨b2, c2, w7, r2', hc7.2.2.2.2.1, hc7.2.2.2.2.2.2 4, heap_lt (hS7.rc.below G2.fresh).blk, ?_, hset.rc.lenAt⟩
              rw [List.map_append, List.map_cons, List.map_nil, hxs, ← List.append_assoc]
              exact hset
            have HM2 : Hid (lenAt b wr = M.length + 1) := by show _ = _; rw [HMl.out]; rfl
            replace hrun1 : Hid _ := hrun1
            have hcapp := sm2
            clear hc hS7 hrow HS6 hxs HML HMl HLk HJ
            by_cases hc1 : s3 = 1
            · obtain ⟨b2, c2, w7, hrun2, o4, of, lb7, hS8, hl8⟩ := key ⟨Bj, off, none⟩ (.inl (by omega))
              have HS8 : Hid (Sr W (w7.setCell ⟨b, 4, none⟩ (.slice b2 zd c2)) b me mb lf pd (b2, zd, c2) M n1 (gb, g2 + 1, gc) (D0 ++ (L1 ++ [x]).map (·.st)) q0 r0 ⟨m, s, a, p, (y1, y2, y3), qb⟩ n (r1, r2, r3) rb ∧ lenAt b (w7.setCell ⟨b, 4, none⟩ (.slice b2 zd c2)) = M.length) := ⟨hS8, hl8⟩
              replace hrun2 : Hid _ := hrun2
              clear key hS8 hl8 hML
              have s21 : s2 = 1 := by omega
              have zd0 : zd = 0 := by omega
              have zc0 : zc = 0 := by omega
              clear hzd hzc HSl
              subst s21 zd0 zc0 hc1
              go_wp2_with first | (at_builtin; refine Lib.wpList_append_run _ rfl _ _ _ _ rfl _ _ rfl rfl _ _ hrun1.out ?_) | (at_builtin; refine Lib.wpList_append_run _ rfl _ _ _ _ rfl _ _ rfl rfl _ _ hrun2.out ?_)
              go_roundw
              case rel => exact ⟨gb, g2 + 1, gc, b2, 0, c2, L1 ++ [x], M, by first | rfl | simp, HEv.out.2.2, HEv.out.1, HEv.out.2.1, HS8.out.1⟩
              case measure => rw [HS8.out.2, HM2.out]; omega
            · obtain ⟨b2, c2, w7, hrun2, o4, of, lb7, hS8, hl8⟩ := key ⟨Bj, off + 11, none⟩ (.inr rfl)
              have HS8 : Hid (Sr W (w7.setCell ⟨b, 4, none⟩ (.slice b2 zd c2)) b me mb lf pd (b2, zd, c2) M n1 (gb, g2 + 1, gc) (D0 ++ (L1 ++ [x]).map (·.st)) q0 r0 ⟨m, s, a, p, (y1, y2, y3), qb⟩ n (r1, r2, r3) rb ∧ lenAt b (w7.setCell ⟨b, 4, none⟩ (.slice b2 zd c2)) = M.length) := ⟨hS8, hl8⟩
              replace hrun2 : Hid _ := hrun2
              have hzc0 : ¬ zc = 0 := by omega
              clear key hS8 hl8 hML
              go_wp2_with first | (at_builtin; refine Lib.wpList_append_run _ rfl _ _ _ _ rfl _ _ rfl rfl _ _ hrun1.out ?_) | (at_builtin; refine Lib.wpList_append_run _ rfl _ _ _ _ rfl _ _ rfl rfl _ _ hrun2.out ?_)
              go_roundw
              case rel => exact ⟨gb, g2 + 1, gc, b2, zd, c2, L1 ++ [x], M, by first | rfl | simp, HEv.out.2.2, HEv.out.1, HEv.out.2.1, HS8.out.1⟩
              case measure => rw [HS8.out.2, HM2.out]; omega
    · have HE : Hid (rstP W wc b me mb lf pd B n1 ⟨m, s, a, p, (y1, y2, y3), qb⟩ Q n rb fr st (.returned (.tuple #[.bool false, .slice g1 g2 g3]))) := .inl ⟨HNk.out.1, (g1, g2, g3), (s1, s2, s3), rfl, by rw [HMD.out.1]; exact HS3.out.rc, by rw [HMD.out.2.1]; exact HS3.out.gn, HS3.out.ks, HS3.out.ng, HS3.out.ny⟩
      clear HS3
      go_wp2_with fail
      go_ret2
      exact HE.out
end Go.Proofs.YtfponcdhaefkdaaDoor
