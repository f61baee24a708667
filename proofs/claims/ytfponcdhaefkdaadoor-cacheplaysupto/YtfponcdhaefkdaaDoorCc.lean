/- Holds, Claim. -/
import Derived.Test.YtfponcdhaefkdaaDoorCb
namespace Go.Proofs.YtfponcdhaefkdaaDoor
open Go.RowKit
set_option linter.unusedVariables false
set_option linter.unusedSimpArgs false
theorem Ks.bel {A : Nat → Prop} {a b c : World} (h : Ks A a b) (hb : Below b.heap.size b c) : Ks A a c := h.trans (Ks.of_below hb (A := fun _ => False)) (fun i _ hi => hi) (fun i _ hi => hi.elim)
theorem Ks.seta {A : Nat → Prop} {a b : World} (h : Ks A a b) (r o : Nat) (v : Value) (hr : a.heap.size ≤ r) : Ks A a (b.setCell ⟨r, o, none⟩ v) := h.trans (Ks.setCell (fun k => k = r) b r o v rfl) (fun i _ hi => hi) (fun i hi e => by omega)
theorem results_ctt {P : Program} {fn : Func} {p r q : Tmp} {ty : TypeId} (h : fn.results = #[.cell p ty, .tmp r, .tmp q]) (tmps : Array Value) (w : World) (g : Nat) (t : TypeId) (cs : Array Value) (fr : Nat × Nat) (d : TypeDesc)
    (hp : tmps.getD p undef = .pointer (some ⟨g, 0, none⟩)) (hg : w.heap[g]? = some (.cells cs t fr)) (hu : P.underlying ty = some d) (hd : (match d with | .struct _ | .array _ _ => true | _ => false) = true) (hi : (P.info? ty).map (·.size) = some cs.size) :
    (results fn tmps).run P w = .ok (.tuple #[.agg cs, tmps.getD r undef, tmps.getD q undef]) w := by
  have hp' : tmps[p]?.getD undef = .pointer (some ⟨g, 0, none⟩) := by simpa using hp
  simp [results, h, hp', asAddr, run_loadVar_row w g t ty cs fr d hg hu hd hi]
set_option maxHeartbeats 4000000 in
set_option maxRecDepth 100000 in
theorem holds_any (w : World) (g : Nat) (c : Ca) (y : SV) (L : List En) (h : Cx w g c y L) (q : Rq) (Q : List Fd) (hQ : In EFd w (sv q.y) Q) (zQ : Q.length ≤ 1099511627776) (hQg : ∀ V, Ks (fun k => k = g) w V → In EFd V (sv q.y) Q) (t : Int) (ht : t ≤ 9223372036854775807) :
    Calls Tryd.prog 14 #[.pointer (some ⟨g, 0, none⟩), .agg (rqv q), .int .i64 t] w fun r w' => r = .returned (.bool (decide (0 ≤ plI (hr c t) q Q L))) ∧ Cx w' g (hr c t) y L ∧ Ks (fun k => k = g) w w' := by
  obtain ⟨W, hW⟩ : ∃ W, w.alloc (.cells (rqv q) 24) = W := ⟨_, rfl⟩
  obtain ⟨ga, hga⟩ : ∃ k, w.heap.size = k := ⟨_, rfl⟩
  have hbW : Below w.heap.size w W := by rw [← hW]; exact bel1 _ _
  have haW : RqB W ga q := by unfold RqB; rw [← hW, ← hga, heap_al, if_pos rfl]
  have hX := h.below hbW
  have hne : ga ≠ g := by have := heap_lt h.blk; omega
  have HH : Hid (Calls Tryd.prog 34 #[.pointer (some ⟨g, 0, none⟩), .int .i64 t] W fun e w' => e = .returned (.tuple #[]) ∧ Cx w' g (hr c t) y L ∧ Ks (fun k => k = g) W w') := hear_any W g c y L hX t ht
  have HP : Hid (∀ V, Cx V g (hr c t) y L → Ks (fun k => k = g) W V → Calls Tryd.prog 40 #[.pointer (some ⟨g, 0, none⟩), .agg (rqv q)] V fun r w' => r = .returned (.int .i64 (plI (hr c t) q Q L)) ∧ Below V.heap.size V w') := fun V hV hk => placeOf_any V g (hr c t) y L hV q Q (hQg V ((Ks.of_below hbW).trans hk (fun i _ hi => hi) (fun i _ hi => hi))) zQ
  have HK0 : Hid (Ks (fun k => k = g) w W) := Ks.of_below hbW
  have HA : Hid (∀ V, Ks (fun k => k = g) W V → RqB V ga q) := fun V hk => (hk.block ga (heap_lt haW) hne).trans haW
  obtain ⟨c', hc'⟩ : ∃ c', hr c t = c' := ⟨_, rfl⟩
  rw [hc'] at HH HP ⊢
  obtain ⟨PL, hPL⟩ : ∃ n, plI c' q Q L = n := ⟨_, rfl⟩
  rw [hPL] at HP ⊢
  obtain ⟨m, s, a, p, ⟨y1, y2, y3⟩, b⟩ := q
  simp only [sv, rqv] at hW HP ⊢
  clear h hQ hbW haW hX hne hQg ht zQ hc' hPL
  go_enter Tryd.func14, Tryd.ntmps14
  go_wp2_with fail
  try rw [hW]
  try rw [hga]
  clear hW hga
  go_at_call 34
  refine HH.out.mono ?_
  rintro e V ⟨rfl, hX, hk⟩
  obtain ⟨a0, a1, a2, a3, a4, a5, a6⟩ := (HA.out V hk).cells
  simp only [sv] at a0 a1 a2 a3 a4 a5
  have HXV : Hid (Cx V g c' y L ∧ Ks (fun k => k = g) W V) := ⟨hX, hk⟩
  clear hX hk HH
  go_wp2_with fail
  go_at_call 40
  refine (HP.out V HXV.out.1 HXV.out.2).mono ?_
  rintro e V2 ⟨rfl, hb2⟩
  have HE : Hid (Cx V2 g c' y L ∧ Ks (fun k => k = g) w V2) := ⟨HXV.out.1.below hb2, (HK0.out.trans HXV.out.2 (fun i _ hi => hi) (fun i _ hi => hi)).bel hb2⟩
  clear hb2 HXV HP HA a0 a1 a2 a3 a4 a5 a6
  go_wp2_with fail
  go_ret
  exact ⟨rfl, HE.out⟩
def oI (o : Option Nat) : Int := match o with | some k => (k : Int) | none => -1
theorem plI_oI (c : Ca) (q : Rq) (Q : List Fd) (L : List En) : plI c q Q L = oI (L.findIdx? (anB c q Q)) := by
  unfold plI oI
  cases L.findIdx? (anB c q Q) <;> rfl
def z3 : Array Value := #[.int .i64 0, .slice none 0 0, .string ⟨#[]⟩]
/-- what Claim tells, and leaves -/
def clP (w : World) (g : Nat) (c : Ca) (y : SV) (L : List En) (o : Option Nat) (r : Ending) (w' : World) : Prop :=
  (o = none ∧ r = .returned (.tuple #[.agg z3, .int .i64 0, .bool false]) ∧ Cx w' g c y L ∧ Ks (Ow g y) w w') ∨
  ∃ i, ∃ hi : i < L.length, o = some i ∧ r = .returned (.tuple #[.agg (rsv L[i].rn (sv L[i].ry) L[i].rb), .int .i64 L[i].st, .bool true]) ∧ ∃ z : SV, Cx w' g c z (L.eraseIdx i) ∧ (sv z).ownBlock = (sv y).ownBlock ∧ Ks (Ow g y) w w' ∧ Er w' L[i]
set_option maxHeartbeats 8000000 in
set_option maxRecDepth 100000 in
theorem claim_any (w : World) (g : Nat) (c : Ca) (y : SV) (L : List En) (h : Cx w g c y L) (q : Rq) (Q : List Fd) (zQ : Q.length ≤ 1099511627776) (hQg : ∀ V, Ks (fun k => k = g) w V → In EFd V (sv q.y) Q) (t : Int) (ht : t ≤ 9223372036854775807) :
    Calls Tryd.prog 13 #[.pointer (some ⟨g, 0, none⟩), .agg (rqv q), .int .i64 t] w fun r w' => clP w g (hr c t) y L (L.findIdx? (anB (hr c t) q Q)) r w' := by
  obtain ⟨W, hW⟩ : ∃ W, (w.alloc (.cells (rqv q) 24)).alloc (.cells #[.int .i64 0, .slice none 0 0, .string ⟨#[]⟩] 26) = W := ⟨_, rfl⟩
  obtain ⟨ga, hga⟩ : ∃ k, w.heap.size = k := ⟨_, rfl⟩
  obtain ⟨r0, hr0⟩ : ∃ k, ga + 1 = k := ⟨_, rfl⟩
  have hbW : Below w.heap.size w W := by rw [← hW]; exact bel2 _ _ _
  have haW : RqB W ga q := by unfold RqB; rw [← hW, ← hga, heap_al, if_neg (by simp), heap_al, if_pos rfl]
  have hrW : W.heap[r0]? = some (.cells #[.int .i64 0, .slice none 0 0, .string ⟨#[]⟩] 26 (0, 0)) := by rw [← hW, ← hr0, ← hga]; exact fresh2 _ _ _
  have hX := h.below hbW
  have hlg := heap_lt h.blk
  have HH : Hid (Calls Tryd.prog 34 #[.pointer (some ⟨g, 0, none⟩), .int .i64 t] W fun e w' => e = .returned (.tuple #[]) ∧ Cx w' g (hr c t) y L ∧ Ks (fun k => k = g) W w') := hear_any W g c y L hX t ht
  have HP : Hid (∀ V, Cx V g (hr c t) y L → Ks (fun k => k = g) W V → Calls Tryd.prog 40 #[.pointer (some ⟨g, 0, none⟩), .agg (rqv q)] V fun r w' => r = .returned (.int .i64 (plI (hr c t) q Q L)) ∧ Below V.heap.size V w') := fun V hV hk => placeOf_any V g (hr c t) y L hV q Q (hQg V ((Ks.of_below hbW).trans hk (fun i _ hi => hi) (fun i _ hi => hi))) zQ
  have HK0 : Hid (Ks (fun k => k = g) w W) := Ks.of_below hbW
  have HA : Hid (∀ V, Ks (fun k => k = g) W V → RqB V ga q ∧ V.heap[r0]? = some (.cells #[.int .i64 0, .slice none 0 0, .string ⟨#[]⟩] 26 (0, 0))) := fun V hk => ⟨(hk.block ga (heap_lt haW) (by omega)).trans haW, (hk.block r0 (heap_lt hrW) (by omega)).trans hrW⟩
  have HR0 : Hid (w.heap.size ≤ r0 ∧ w.heap.size ≤ ga) := ⟨by omega, by omega⟩
  have HLt : Hid (∀ k, Cb g y L k → k < w.heap.size) := fun k hk => h.lt hk
  obtain ⟨c', hc'⟩ : ∃ c', hr c t = c' := ⟨_, rfl⟩
  rw [hc'] at HH HP ⊢
  obtain ⟨o, ho⟩ : ∃ o, L.findIdx? (anB c' q Q) = o := ⟨_, rfl⟩
  have HO : Hid (L.findIdx? (anB c' q Q) = o) := ho
  have HPL : Hid (plI c' q Q L = oI o) := by show _ = _; rw [plI_oI, ho]
  rw [ho]
  obtain ⟨PL, hPL⟩ : ∃ n, plI c' q Q L = n := ⟨_, rfl⟩
  rw [hPL] at HP HPL
  obtain ⟨m, s, a, p, ⟨y1, y2, y3⟩, b⟩ := q
  simp only [sv, rqv] at hW HP ⊢
  clear h hbW haW hrW hX hQg ht zQ hc' hPL hlg ho
  go_enter Tryd.func13, Tryd.ntmps13
  go_wp2_with fail
  try rw [hW]
  try rw [hga]
  try rw [hr0]
  clear hW hga hr0
  go_at_call 34
  refine HH.out.mono ?_
  rintro e V ⟨rfl, hX, hk⟩
  obtain ⟨a0, a1, a2, a3, a4, a5, a6⟩ := (HA.out V hk).1.cells
  simp only [sv] at a0 a1 a2 a3 a4 a5
  have HXV : Hid (Cx V g c' y L ∧ Ks (fun k => k = g) W V) := ⟨hX, hk⟩
  clear hX hk HH
  go_wp2_with fail
  go_at_call 40
  refine (HP.out V HXV.out.1 HXV.out.2).mono ?_
  rintro e V2 ⟨rfl, hb2⟩
  have HX2 : Hid (Cx V2 g c' y L ∧ Ks (fun k => k = g) w V2 ∧ V2.heap[r0]? = some (.cells #[.int .i64 0, .slice none 0 0, .string ⟨#[]⟩] 26 (0, 0))) := ⟨HXV.out.1.below hb2, (HK0.out.trans HXV.out.2 (fun i _ hi => hi) (fun i _ hi => hi)).bel hb2, (hb2.block r0 (heap_lt (HA.out V HXV.out.2).2)).trans (HA.out V HXV.out.2).2⟩
  clear hb2 HXV HP HA a0 a1 a2 a3 a4 a5 a6
  have f0 := frozen_blk HX2.out.2.2 0
  have f1 := frozen_blk HX2.out.2.2 1
  have f2 := frozen_blk HX2.out.2.2 2
  have p0 := cell_blk HX2.out.2.2 0
  have p1 := cell_blk HX2.out.2.2 1
  have p2 := cell_blk HX2.out.2.2 2
  simp only [List.getElem?_toArray, List.getElem?_cons_succ, List.getElem?_cons_zero] at p0 p1 p2
  rcases o with _ | i
  · obtain rfl : PL = -1 := HPL.out
    have hm : (-1 : Int) < 0 := by decide
    obtain ⟨Z, hZ⟩ : ∃ E, ((V2.setCell ⟨r0, 0, none⟩ (.int .i64 0)).setCell ⟨r0, 1, none⟩ (.slice none 0 0)).setCell ⟨r0, 2, none⟩ (.string ⟨#[]⟩) = E := ⟨_, rfl⟩
    have HZr : Hid (Z.heap[r0]? = some (.cells #[.int .i64 0, .slice none 0 0, .string ⟨#[]⟩] 26 (0, 0))) := by
      show _ = _
      rw [← hZ, setCell_block _ _ _ _ _ _ _ (setCell_block _ _ _ _ _ _ _ (setCell_block _ _ _ _ _ _ _ HX2.out.2.2))]
      rfl
    have HE : Hid (clP w g c' y L none (.returned (.tuple #[.agg z3, .int .i64 0, .bool false])) Z) := by
      refine .inl ⟨rfl, rfl, ?_, ?_⟩
      · refine HX2.out.1.keep fun k hk _ => ?_
        have : k ≠ r0 := by have := HLt.out k hk; have := HR0.out.1; omega
        rw [← hZ, setCell_other _ _ _ _ _ this, setCell_other _ _ _ _ _ this, setCell_other _ _ _ _ _ this]
      · rw [← hZ]
        exact (((HX2.out.2.1.mono (fun i _ hi => (.inl hi : Ow g y i))).seta r0 0 _ HR0.out.1).seta r0 1 _ HR0.out.1).seta r0 2 _ HR0.out.1
    clear HX2 HPL HK0
    go_wp2_with fail
    try rw [hZ]
    refine bodyPost_ret (results_ctt (p := 6) (ty := 26) (r := 7) (q := 8) rfl _ _ r0 26 _ (0, 0) _ rfl HZr.out Tryd.underlying26 rfl (by kernel_rfl)) rfl ?_
    exact HE.out
  · obtain rfl : PL = (i : Int) := HPL.out
    have hi : i < L.length := (List.findIdx?_eq_some_iff_getElem.1 HO.out).1
    have hm : ¬ (i : Int) < 0 := by omega
    obtain ⟨x, hx⟩ : ∃ x, L[i] = x := ⟨_, rfl⟩
    have Hx : Hid (L[i]'hi = x) := hx
    obtain ⟨⟨k1, k2, k3⟩, hqy⟩ : ∃ n, x.q.y = n := ⟨_, rfl⟩
    obtain ⟨⟨k4, k5, k6⟩, hns⟩ : ∃ n, x.ns = n := ⟨_, rfl⟩
    obtain ⟨⟨e1, e2, e3⟩, hry⟩ : ∃ n, x.ry = n := ⟨_, rfl⟩
    obtain ⟨Bk, off, cap, e, hc⟩ := HX2.out.1.row.isIn.en i hi
    obtain ⟨d0, d1, d2, d3, d4, d5, d6, d7, d8, d9, d10, d11, d12⟩ := hc V2 (Below.refl _ _)
    rw [hx] at d0 d1 d2 d3 d4 d5 d6 d7 d8 d9 d10 d11 d12
    rw [hqy] at d4
    rw [hns] at d6
    rw [hry] at d8
    simp only [sv] at d4 d6 d8
    have c4 := HX2.out.1.cells.2.2.2.2.1
    have lg := heap_lt HX2.out.1.blk
    rw [e] at c4
    obtain ⟨n, hn⟩ : ∃ n, L.length = n := ⟨_, rfl⟩
    rw [hn] at c4
    have q1 : (i : Int) < (n : Int) := by omega
    have q2 : (0 : Int) ≤ (i : Int) := by omega
    obtain ⟨W5, hW5⟩ : ∃ W, V2.alloc (.cells #[.string x.q.m, .string x.q.s, .string x.q.a, .string x.q.p, .slice k1 k2 k3, .string x.q.b, .slice k4 k5 k6, .int .i64 x.rn, .slice e1 e2 e3, .string x.rb, .int .i64 (x.sz : Int), .int .i64 x.st, .int .i64 x.ar] 87) = W := ⟨_, rfl⟩
    obtain ⟨ge, hge⟩ : ∃ k, V2.heap.size = k := ⟨_, rfl⟩
    have hb5 : Below V2.heap.size V2 W5 := by rw [← hW5]; exact bel1 _ _
    have HX5 : Hid (Cx W5 g c' y L ∧ Ks (Ow g y) w W5 ∧ W5.heap[r0]? = some (.cells #[.int .i64 0, .slice none 0 0, .string ⟨#[]⟩] 26 (0, 0)) ∧ W5.heap[ge]? = some (.cells #[.string x.q.m, .string x.q.s, .string x.q.a, .string x.q.p, .slice k1 k2 k3, .string x.q.b, .slice k4 k5 k6, .int .i64 x.rn, .slice e1 e2 e3, .string x.rb, .int .i64 (x.sz : Int), .int .i64 x.st, .int .i64 x.ar] 87 (0, 0)) ∧ w.heap.size ≤ ge ∧ r0 ≠ ge) := ⟨HX2.out.1.below hb5, (HX2.out.2.1.mono (fun i _ hi => (.inl hi : Ow g y i))).bel hb5, (hb5.block r0 (heap_lt HX2.out.2.2)).trans HX2.out.2.2, by rw [← hW5, ← hge, heap_al, if_pos rfl], by rw [← hge]; exact HX2.out.2.1.size, by rw [← hge]; have := heap_lt HX2.out.2.2; omega⟩
    have HD : Hid (Calls Tryd.prog 41 #[.pointer (some ⟨g, 0, none⟩), .int .i64 (i : Int)] W5 fun e w' => e = .returned (.tuple #[]) ∧ ∃ z : SV, Cx w' g c' z (L.eraseIdx i) ∧ (sv z).ownBlock = (sv y).ownBlock ∧ Ks (Ow g y) W5 w') := drop_any W5 g c' y L HX5.out.1 i hi
    have HRY : Hid (x.ry = (e1, e2, e3)) := hry
    have hi64 : i ≤ 64 := by have := HX2.out.1.ok.len; have := HX2.out.1.ok.me; omega
    clear hc hx hn e hb5 HX2 HPL HK0 f0 f1 f2 p0 p1 p2 hqy hns hry
    go_upto_region 6 with fail
    try rw [hW5]
    try rw [hge]
    clear hW5 hge d0 d1 d2 d3 d4 d5 d6 d7 d8 d9 d10 d11 d12 c4
    go_wp2_with fail
    go_at_call 41
    refine HD.out.mono ?_
    rintro e W6 ⟨rfl, z, hz1, hz2, hz3⟩
    have hown : ∀ k, Ow g y k → k < w.heap.size := fun k hk => HLt.out k (.inl hk)
    have hr6 : W6.heap[r0]? = some (.cells #[.int .i64 0, .slice none 0 0, .string ⟨#[]⟩] 26 (0, 0)) := (hz3.block r0 (heap_lt HX5.out.2.2.1) (fun ho => by have := hown _ ho; have := HR0.out.1; omega)).trans HX5.out.2.2.1
    have he6 : W6.heap[ge]? = some (.cells #[.string x.q.m, .string x.q.s, .string x.q.a, .string x.q.p, .slice k1 k2 k3, .string x.q.b, .slice k4 k5 k6, .int .i64 x.rn, .slice e1 e2 e3, .string x.rb, .int .i64 (x.sz : Int), .int .i64 x.st, .int .i64 x.ar] 87 (0, 0)) := (hz3.block ge (heap_lt HX5.out.2.2.2.1) (fun ho => by have := hown _ ho; have := HX5.out.2.2.2.2.1; omega)).trans HX5.out.2.2.2.1
    have d7 := cell_blk he6 7
    have d8 := cell_blk he6 8
    have d9 := cell_blk he6 9
    have d11 := cell_blk he6 11
    simp only [List.getElem?_toArray, List.getElem?_cons_succ, List.getElem?_cons_zero] at d7 d8 d9 d11
    have f0 := frozen_blk hr6 0
    have f1 := frozen_blk hr6 1
    have f2 := frozen_blk hr6 2
    have p0 := cell_blk hr6 0
    have p1 := cell_blk hr6 1
    have p2 := cell_blk hr6 2
    simp only [List.getElem?_toArray, List.getElem?_cons_succ, List.getElem?_cons_zero] at p0 p1 p2
    have hne := HX5.out.2.2.2.2.2
    have HZ : Hid (∀ D : World, D = W6.drew → clP w g c' y L (some i) (.returned (.tuple #[.agg (rsv x.rn (sv x.ry) x.rb), .int .i64 x.st, .bool true])) (((D.setCell ⟨r0, 0, none⟩ (.int .i64 x.rn)).setCell ⟨r0, 1, none⟩ (sv x.ry)).setCell ⟨r0, 2, none⟩ (.string x.rb)) ∧ (((D.setCell ⟨r0, 0, none⟩ (.int .i64 x.rn)).setCell ⟨r0, 1, none⟩ (sv x.ry)).setCell ⟨r0, 2, none⟩ (.string x.rb)).heap[r0]? = some (.cells #[.int .i64 x.rn, sv x.ry, .string x.rb] 26 (0, 0))) := fun D hD => by
      have hbD : Below W6.heap.size W6 D := by rw [hD]; exact (Below.refl _ _).drew
      have hrD : D.heap[r0]? = some (.cells #[.int .i64 0, .slice none 0 0, .string ⟨#[]⟩] 26 (0, 0)) := (hbD.block r0 (heap_lt hr6)).trans hr6
      have hoth : ∀ k, k < w.heap.size → (((D.setCell ⟨r0, 0, none⟩ (.int .i64 x.rn)).setCell ⟨r0, 1, none⟩ (sv x.ry)).setCell ⟨r0, 2, none⟩ (.string x.rb)).heap[k]? = D.heap[k]? := fun k hk => by
        have : k ≠ r0 := by have := HR0.out.1; omega
        rw [setCell_other _ _ _ _ _ this, setCell_other _ _ _ _ _ this, setCell_other _ _ _ _ _ this]
      refine ⟨.inr ⟨i, hi, rfl, by rw [Hx.out], z, ?_, hz2, ?_, ?_⟩, ?_⟩
      · refine (hz1.below hbD).keep fun k hk _ => hoth k ?_
        rcases hk with hk | ⟨e, he, hk⟩
        · exact HLt.out k (.inl (by rw [← ow_eq hz2]; exact hk))
        · exact HLt.out k (.inr ⟨e, (List.eraseIdx_sublist L i).subset he, hk⟩)
      · exact (((((HX5.out.2.1.trans hz3 (fun i _ hi => hi) (fun i _ hi => hi)).bel hbD)).seta r0 0 _ HR0.out.1).seta r0 1 _ HR0.out.1).seta r0 2 _ HR0.out.1
      · have hEr := HX5.out.1.er L[i] (List.getElem_mem hi)
        refine hEr.keep fun k hk hl => ?_
        have hkw : k < w.heap.size := HLt.out k (.inr ⟨_, List.getElem_mem hi, hk⟩)
        rw [hoth k hkw, hbD.block k (Nat.lt_of_lt_of_le hl hz3.size), hz3.block k hl (HX5.out.1.off hEr hk)]
      · rw [setCell_block _ _ _ _ _ _ _ (setCell_block _ _ _ _ _ _ _ (setCell_block _ _ _ _ _ _ _ hrD))]
        rfl
    obtain ⟨rn, hrn⟩ : ∃ n, x.rn = n := ⟨_, rfl⟩
    obtain ⟨st, hst⟩ : ∃ n, x.st = n := ⟨_, rfl⟩
    obtain ⟨rb, hrb⟩ : ∃ n, x.rb = n := ⟨_, rfl⟩
    rw [hrn, hst, hrb, HRY.out] at HZ
    rw [hrn] at d7
    rw [hrb] at d9
    rw [hst] at d11
    simp only [sv] at HZ
    clear hz1 hz2 hz3 hr6 he6 HX5 HD HRY hown hrn hst hrb
    go_upto_region 7 with fail
    go_region
    all_goals
      go_wp2_with fail
      refine bodyPost_ret (results_ctt (p := 6) (ty := 26) (r := 7) (q := 8) rfl _ _ r0 26 _ (0, 0) _ rfl (HZ.out _ rfl).2 Tryd.underlying26 rfl (by kernel_rfl)) rfl ?_
      exact (HZ.out _ rfl).1
end Go.Proofs.YtfponcdhaefkdaaDoor
