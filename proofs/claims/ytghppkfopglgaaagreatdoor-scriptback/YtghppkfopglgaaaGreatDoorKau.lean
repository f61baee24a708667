/- The printer: texts. The printer: set, traced. The printer: move. The printer: command. isNone, IndexFunc, ContainsFunc. -/
import Derived.Test.YtghppkfopglgaaaGreatDoorKat
import Derived.Lib.MinMax
namespace Go.Proofs.YtghppkfopglgaaaGreatDoor
open Go.RowKit
set_option linter.unusedVariables false
set_option linter.unusedSimpArgs false
/-- a text in quotes, of no more than is needed -/
def tqB (s : ByteArray) : ByteArray := bt (qtS (s.data.toList.take 4096))
def textsL (l : List UInt8) (ss : List ByteArray) : List UInt8 := ss.foldl (fun l s => wordL l (tqB s)) l
theorem textsL_snoc (l : List UInt8) (ss : List ByteArray) (s : ByteArray) : textsL l (ss ++ [s]) = wordL (textsL l ss) (tqB s) := by unfold textsL; rw [List.foldl_append]; rfl
theorem wordL_full (l : List UInt8) (s : ByteArray) (h : fullB l = true) : wordL l s = l := by
  unfold wordL
  rw [show layL l ⟨#[32]⟩ = l by unfold layL; rw [if_pos h]]
  unfold layL
  rw [if_pos h]
theorem tq_sz (s : ByteArray) : (tqB s).size ≠ 0 ∧ (tqB s).size ≤ 1048576 := by
  have h := qtS_len (s.data.toList.take 4096)
  have h2 : (s.data.toList.take 4096).length ≤ 4096 := by rw [List.length_take]; omega
  have e : (tqB s).size = (qtS (s.data.toList.take 4096)).length := by unfold tqB; rw [sz_eq]; rfl
  rw [e]
  refine ⟨by unfold qtS; simp, by omega⟩
set_option maxRecDepth 100000 in
set_option maxHeartbeats 4000000 in
theorem texts_any (g bk cap : Nat) (l : List UInt8) (ns : List ByteArray) (cs : Array Value) (w : World) (h : Pb g l w) (hb : w.heap[bk]? = some (.cells cs 9 (0, 0))) (hne : bk ≠ g)
    (hc : ∀ (j : Nat) (n : ByteArray), ns[j]? = some n → cs[j]? = some (Value.string n)) (hI : ∀ n ∈ ns, n.size ≤ 140737488355328) (hlen : ns.length ≤ 1000) :
    Calls Tryz.prog 98 #[.pointer (some ⟨g, 0, none⟩), .slice (some ⟨bk, 0, none⟩) ns.length cap] w fun e w' => e = .returned (.tuple #[]) ∧ Pb g (textsL l ns) w' ∧ Fr g w w' := by
  have HJ0 : Hid (Pb g (textsL l (ns.take 0)) w ∧ Fr g w w) := hid ⟨h, Fr.refl _ _⟩
  have HB := hid hb
  have HCC := hid hc
  have HII := hid hI
  have HW := hid (word_any g)
  have HLL := hid hlen
  obtain ⟨N, hN⟩ : ∃ N, ns.length = N := ⟨_, rfl⟩
  have HN := hid hN
  rw [hN]
  clear h hc hb hI hlen hN
  go_enter Tryz.func98, Tryz.ntmps98
  go_wp2_with fail
  go_loopw [8] (fun iv wr => ∃ i : Nat, iv = .int .i64 (i : Int) ∧ i ≤ N ∧ Hid (Pb g (textsL l (ns.take i)) wr ∧ Fr g w wr)) (fun iv _ => N - (intOf iv).toNat)
  case atStart => exact ⟨0, rfl, Nat.zero_le _, HJ0⟩
  case round =>
    obtain ⟨i, rfl, hle, HJ⟩ := hrel
    clear HJ0
    by_cases hlt : i < N
    · have hltI : (i : Int) < (N : Int) := by omega
      obtain ⟨n, hn⟩ : ∃ n, ns[i]? = some n := ⟨_, List.getElem?_eq_getElem (by have := HN.out; omega)⟩
      have hbr := HJ.out.2.kb bk cs 9 hne HB.out (by decide)
      have c0 : wr.cell? ⟨bk, i, none⟩ = some (.string n) := (cell_blk hbr i).trans (HCC.out i n hn)
      have l0 := heap_lt hbr
      have hi : n.size ≤ 140737488355328 := HII.out n (List.mem_of_getElem? hn)
      have hsz := tq_sz n
      have HU := hid (full_any g _ wr HJ.out.1)
      have HW2 := hid (fun V (hV : Pb g (textsL l (ns.take i)) V) => HW.out _ (tqB n) V hV hsz.1 hsz.2)
      have HP := hid HJ.out.1
      have HFR := hid HJ.out.2
      have HT : Hid (ns.take (i + 1) = ns.take i ++ [n]) := hid (by rw [List.take_add_one, hn]; rfl)
      have HG : Hid (g ≤ wr.heap.size) := hid (Nat.le_of_lt HJ.out.1.lt)
      have HNL := HLL.out
      have HNN := HN.out
      cases hfu : fullB (textsL l (ns.take i)) with
      | true =>
        have HJ2 : Hid (Pb g (textsL l (ns.take (i + 1))) wr ∧ Fr g w wr) := hid ⟨by rw [HT.out, textsL_snoc, wordL_full _ _ hfu]; exact HJ.out.1, HJ.out.2⟩
        rw [hfu] at HU
        clear hbr hn hi hsz HJ HW2 hfu
        go_wp2_with fail
        go_at_call 75
        refine HU.out.mono ?_
        rintro e V ⟨rfl, e2⟩
        subst e2
        go_wp2_with fail
        go_roundw
        case rel => exact ⟨i + 1, rfl, by omega, HJ2⟩
        case measure => show N - ((i : Int) + 1).toNat < N - ((i : Nat) : Int).toNat; omega
      | false =>
        rw [hfu] at HU
        obtain ⟨m, hm⟩ : ∃ m : Nat, min n.size 4096 = m := ⟨_, rfl⟩
        have hmi : min (n.size : Int) 4096 = (m : Int) := by omega
        have hm1 : m ≤ n.size := by omega
        have hm2 : (m : Int) ≤ (n.size : Int) := by omega
        have hm3 : (0 : Int) ≤ (m : Int) := by omega
        have HTQ : Hid (bt (qtS (n.extract 0 m).data.toList) = tqB n) := hid (by
          unfold tqB
          rw [Lib.extract_data]
          simp only [List.drop_zero, Nat.sub_zero]
          rw [← hm, sz_eq]
          congr 2
          by_cases hle : n.data.toList.length ≤ 4096
          · rw [Nat.min_eq_left hle, List.take_of_length_le (Nat.le_refl _), List.take_of_length_le hle]
          · rw [Nat.min_eq_right (by omega)])
        have HQ := hid (quote_any (n.extract 0 m) wr (by
          rw [sz_eq, Lib.extract_data]
          simp only [List.drop_zero, Nat.sub_zero, List.length_take]
          omega))
        clear hbr hn hi hsz HJ hfu hm
        go_wp2_with fail
        go_at_call 75
        refine HU.out.mono ?_
        rintro e V ⟨rfl, e2⟩
        subst e2
        go_wp2_with fail
        go_at_call 10
        refine HQ.out.mono ?_
        rintro e V1 ⟨rfl, hb1⟩
        rw [HTQ.out]
        go_wp2_with fail
        go_at_call 73
        refine (HW2.out V1 (HP.out.below hb1)).mono ?_
        rintro e V2 ⟨rfl, h1, h2⟩
        have HJ2 : Hid (Pb g (textsL l (ns.take (i + 1))) V2 ∧ Fr g w V2) := hid ⟨by rw [HT.out, textsL_snoc]; exact h1, (HFR.out.trans (Fr.below hb1 HG.out)).trans h2⟩
        clear h1 h2 hb1 HQ HW2
        go_wp2_with fail
        go_roundw
        case rel => exact ⟨i + 1, rfl, by omega, HJ2⟩
        case measure => show N - ((i : Int) + 1).toNat < N - ((i : Nat) : Int).toNat; omega
    · have hnlt : ¬ (i : Int) < (N : Int) := by omega
      have hi : i = N := by omega
      subst hi
      go_wp2_with fail
      (try simp only [Exit.inBlock, Exit.then])
      go_end0
      have := HJ.out
      rw [List.take_of_length_le (by have := HN.out; omega)] at this
      exact ⟨rfl, this⟩
end Go.Proofs.YtghppkfopglgaaaGreatDoor
namespace Go.Proofs.YtghppkfopglgaaaGreatDoor
open Go.RowKit
set_option linter.unusedVariables false
set_option linter.unusedSimpArgs false
def siN (s : Si) : List Int := [s.t, s.p, s.s, s.w, s.f, s.l]
set_option maxRecDepth 100000 in
set_option maxHeartbeats 4000000 in
theorem pset_any (g : Nat) (l : List UInt8) (s : Si) (w : World) (hE : Env w) (g8 : 8 ≤ g) (h : Pb g l w) (hI : SiOk s) :
    Calls Tryz.prog 97 #[.pointer (some ⟨g, 0, none⟩), .agg (siA s)] w fun e w' => e = .returned (.tuple #[]) ∧ Pb g (numsL l (siN s)) w' ∧ Fr g w w' := by
  obtain ⟨st, sp, ss, sw, sf, sl⟩ := s
  obtain ⟨i1, i2, i3, i4, i5, i6⟩ := hI
  simp only at i1 i2 i3 i4 i5 i6
  obtain ⟨W1, hW1⟩ : ∃ V, w.alloc (.cells #[.int .i64 st, .int .i64 sp, .int .i64 ss, .int .i64 sw, .int .i64 sf, .int .i64 sl] 36) = V := ⟨_, rfl⟩
  obtain ⟨W2, hW2⟩ : ∃ V, W1.alloc (.cells #[.int .i64 st, .int .i64 sp, .int .i64 ss, .int .i64 sw, .int .i64 sf, .int .i64 sl] 2) = V := ⟨_, rfl⟩
  have hg := h.lt
  have q1 : W1.heap[w.heap.size]? = some (.cells #[.int .i64 st, .int .i64 sp, .int .i64 ss, .int .i64 sw, .int .i64 sf, .int .i64 sl] 36 (0, 0)) := by rw [← hW1, heap_al, if_pos rfl]
  have q2 : W2.heap[W1.heap.size]? = some (.cells #[.int .i64 st, .int .i64 sp, .int .i64 ss, .int .i64 sw, .int .i64 sf, .int .i64 sl] 2 (0, 0)) := by rw [← hW2, heap_al, if_pos rfl]
  have b1 : Below w.heap.size w W1 := by rw [← hW1]; exact bel1 _ _
  have b2 : Below W1.heap.size W1 W2 := by rw [← hW2]; exact bel1 _ _
  have b02 : Below w.heap.size w W2 := b1.trans (b2.mono b1.size)
  have F2 := Fr.below b02 (Nat.le_of_lt hg)
  have HN := hid (numbers_any g W1.heap.size 6 l [st, sp, ss, sw, sf, sl] _ W2 (F2.env hE g8) g8 (h.below b02) q2 (by have := b1.size; omega) (fun j n hj => by
    match j, hj with
    | 0, hj => cases hj; rfl
    | 1, hj => cases hj; rfl
    | 2, hj => cases hj; rfl
    | 3, hj => cases hj; rfl
    | 4, hj => cases hj; rfl
    | 5, hj => cases hj; rfl
    | j + 6, hj => simp at hj) (by
    intro n hn
    simp only [List.mem_cons, List.not_mem_nil, or_false] at hn
    rcases hn with rfl | rfl | rfl | rfl | rfl | rfl <;> assumption) (by simp))
  have HF2 := hid F2
  have HW1 := hid hW1
  have HW2 := hid hW2
  have hl1 := heap_lt q1
  have e0 := cell_blk q1 0
  have e1 := cell_blk q1 1
  have e2 := cell_blk q1 2
  have e3 := cell_blk q1 3
  have e4 := cell_blk q1 4
  have e5 := cell_blk q1 5
  simp only [List.getElem?_toArray, List.getElem?_cons_zero, List.getElem?_cons_succ] at e0 e1 e2 e3 e4 e5
  clear hE h q1 q2 b1 b2 b02 F2 i1 i2 i3 i4 i5 i6 hW1 hW2
  go_enter Tryz.func97, Tryz.ntmps97
  simp only [siA]
  go_upto_region 1 with fail
  rw [HW1.out]
  go_wp2_with fail
  rw [HW2.out]
  go_at_call 72
  refine HN.out.mono ?_
  rintro e V ⟨rfl, h1, h2⟩
  go_wp2_with fail
  go_end0
  exact ⟨rfl, h1, HF2.out.trans h2⟩
set_option maxRecDepth 100000 in
theorem traced_any (b : Bool) (w : World) : Calls Tryz.prog 74 #[.bool b] w fun e w' => e = .returned (.string (if b then nServer else nClient)) ∧ w' = w := by
  cases b with
  | true =>
    go_enter Tryz.func74, Tryz.ntmps74
    go_wp2_with fail
    go_ret
    exact ⟨rfl, rfl⟩
  | false =>
    go_enter Tryz.func74, Tryz.ntmps74
    go_wp2_with fail
    go_ret
    exact ⟨rfl, rfl⟩
theorem names_at (l : List (List UInt8)) (k : Nat) (h : k < l.length) : (namesC l)[k]? = some (Value.string (bt (l.getD k []))) := by
  unfold namesC
  simp [h]
def fdL (l : List UInt8) (f : Fd) : List UInt8 := textsL (if f.nv then wordL l nNever else l) [f.n, f.v]
def rqL (l : List UInt8) (q : Rq) : List UInt8 := q.fs.foldl fdL (textsL l [q.m, q.s, q.a, q.p, q.b])
def pgL (l : List UInt8) (p : Pg) : List UInt8 := p.ch.foldl (fun l c => textsL l [c.v, c.b]) (textsL (numsL (textsL l [p.a, p.p]) [p.st]) [p.vr])
def tgsL (l : List UInt8) (ts : List Tg) : List UInt8 := ts.foldl (fun l t => textsL l [t.a, t.p]) l
def woL (l : List UInt8) (w : Wo) : List UInt8 :=
  let a := numsL (lineL l nServer) (siN w.sv)
  let b := numsL (lineL a nClient) (siN w.cl)
  let c := numsL (lineL b nConf) [w.ce, w.cb, w.cl', w.cp]
  let p := w.pg.foldl (fun l p => pgL (lineL l nPage) p) c
  let u := w.ru.foldl (fun l u => tgsL (tgsL (lineL l nRule) [u.of]) u.push) p
  let o := w.og.foldl (fun l s => textsL (lineL l nOrigin) [s]) u
  lineL o nEnd
def mvT (l : List UInt8) (m : Mv) : List UInt8 :=
  match m.k.toNat with
  | 1 => rqL l m.rq
  | 8 => pgL l m.pg
  | 9 => numsL l (siN m.si)
  | 10 => textsL (numsL l [m.n]) [m.by']
  | _ => numsL l [m.n]
def mvL (l : List UInt8) (m : Mv) : List UInt8 := mvT (lineL l (mvB m.k.toNat)) m
def cmT (l : List UInt8) (c : Cm) : List UInt8 :=
  match c.k.toNat with
  | 1 => woL l c.w
  | 3 => numsL l [c.n]
  | 10 => wordL l (if c.sv then nServer else nClient)
  | _ => l
def cmL (l : List UInt8) (c : Cm) : List UInt8 := if c.k = 2 then mvL l c.m else cmT (lineL l (kdB c.k.toNat)) c
def rqA (q : Rq) (v : Value) : Array Value := #[.string q.m, .string q.s, .string q.a, .string q.p, v, .string q.b]
end Go.Proofs.YtghppkfopglgaaaGreatDoor
namespace Go.Proofs.YtghppkfopglgaaaGreatDoor
open Go.RowKit
set_option linter.unusedVariables false
set_option linter.unusedSimpArgs false
theorem fr_blk {g k : Nat} {w w' : World} {c : Array Value} {t : TypeId} (h : Fr g w w') (hk : k ≠ g) (hc : w.heap[k]? = some (.cells c t (0, 0))) (ht : t ≠ 5) : w'.heap[k]? = some (.cells c t (0, 0)) := h.kb k c t hk hc ht
theorem num1 {g : Nat} {l : List UInt8} {n : Int} {W V : World} (hE : Env W) (g8 : 8 ≤ g) (h : Pb g l W) (hI : I64 n) (hV : W.alloc (.cells #[.int .i64 n] 2) = V) :
    Calls Tryz.prog 72 #[.pointer (some ⟨g, 0, none⟩), .slice (some ⟨W.heap.size, 0, none⟩) 1 1] V fun e w' => e = .returned (.tuple #[]) ∧ Pb g (numsL l [n]) w' ∧ Fr g W w' := by
  have hg := h.lt
  have q2 : V.heap[W.heap.size]? = some (.cells #[.int .i64 n] 2 (0, 0)) := by rw [← hV, heap_al, if_pos rfl]
  have b2 : Below W.heap.size W V := by rw [← hV]; exact bel1 _ _
  have F2 := Fr.below b2 (Nat.le_of_lt hg)
  refine (numbers_any g W.heap.size 1 l [n] _ V (F2.env hE g8) g8 (h.below b2) q2 (by omega) (fun j x hj => by
    match j, hj with
    | 0, hj => cases hj; rfl
    | j + 1, hj => simp at hj) (by intro x hx; rw [List.mem_singleton] at hx; subst hx; exact hI) (by simp)).mono ?_
  rintro e w' ⟨rfl, h1, h2⟩
  exact ⟨rfl, h1, F2.trans h2⟩
theorem txt1 {g : Nat} {l : List UInt8} {s : ByteArray} {W V : World} (h : Pb g l W) (hI : s.size ≤ 140737488355328) (hV : W.alloc (.cells #[.string s] 9) = V) :
    Calls Tryz.prog 98 #[.pointer (some ⟨g, 0, none⟩), .slice (some ⟨W.heap.size, 0, none⟩) 1 1] V fun e w' => e = .returned (.tuple #[]) ∧ Pb g (textsL l [s]) w' ∧ Fr g W w' := by
  have hg := h.lt
  have q2 : V.heap[W.heap.size]? = some (.cells #[.string s] 9 (0, 0)) := by rw [← hV, heap_al, if_pos rfl]
  have b2 : Below W.heap.size W V := by rw [← hV]; exact bel1 _ _
  have F2 := Fr.below b2 (Nat.le_of_lt hg)
  refine (texts_any g W.heap.size 1 l [s] _ V (h.below b2) q2 (by omega) (fun j x hj => by
    match j, hj with
    | 0, hj => cases hj; rfl
    | j + 1, hj => simp at hj) (by intro x hx; rw [List.mem_singleton] at hx; subst hx; exact hI) (by simp)).mono ?_
  rintro e w' ⟨rfl, h1, h2⟩
  exact ⟨rfl, h1, F2.trans h2⟩
theorem mv_names : ∀ k : Fin 11, 1 ≤ k.val → (mvB k.val).size ≠ 0 ∧ (mvB k.val).size ≤ 1048576 := by decide +kernel
set_option maxRecDepth 100000 in
set_option maxHeartbeats 8000000 in
theorem pmove_any (g : Nat) (l : List UInt8) (m : Mv) (sf sc : Sl) (w : World) (hE : Env w) (g8 : 8 ≤ g) (h : Pb g l w) (hI : MvOk m) (h1 : 1 ≤ m.k) (h10 : m.k ≤ 10) (hby : m.by'.size ≤ 140737488355328)
    (hR : m.k = 1 → ∀ l V, Pb g l V → Fr g w V → Calls Tryz.prog 95 #[.pointer (some ⟨g, 0, none⟩), .agg (rqA m.rq sf.v)] V fun e w' => e = .returned (.tuple #[]) ∧ Pb g (rqL l m.rq) w' ∧ Fr g V w')
    (hP : m.k = 8 → ∀ l V, Pb g l V → Fr g w V → Calls Tryz.prog 96 #[.pointer (some ⟨g, 0, none⟩), .agg (pgA m.pg sc)] V fun e w' => e = .returned (.tuple #[]) ∧ Pb g (pgL l m.pg) w' ∧ Fr g V w') :
    Calls Tryz.prog 69 #[.pointer (some ⟨g, 0, none⟩), .agg (mvA m sf.v sc.v)] w fun e w' => e = .returned (.tuple #[]) ∧ Pb g (mvL l m) w' ∧ Fr g w w' := by
  obtain ⟨kI, mn, ⟨qm, qs, qa, qp, qb, qf⟩, ⟨pa, pp, ps, pv, pc⟩, ⟨st, sp, ss, sw, sf', sl⟩, mb⟩ := m
  obtain ⟨fb, fn, fc⟩ := sf
  obtain ⟨cb, cn, cc⟩ := sc
  obtain ⟨hmn, hpg, hsi⟩ := hI
  simp only at h1 h10 hmn hby
  obtain ⟨k, hk⟩ : ∃ k : Nat, kI = (k : Int) := ⟨kI.toNat, by omega⟩
  have hk1 : 1 ≤ k := by omega
  have hk10 : k ≤ 10 := by omega
  have HNM := mv_names ⟨k, by omega⟩ hk1
  simp only at HNM
  have HML : Hid (mvL l ⟨kI, mn, ⟨qm, qs, qa, qp, qb, qf⟩, ⟨pa, pp, ps, pv, pc⟩, ⟨st, sp, ss, sw, sf', sl⟩, mb⟩ = mvT (lineL l (mvB k)) ⟨kI, mn, ⟨qm, qs, qa, qp, qb, qf⟩, ⟨pa, pp, ps, pv, pc⟩, ⟨st, sp, ss, sw, sf', sl⟩, mb⟩) := hid (by
    unfold mvL
    simp only
    rw [show kI.toNat = k by omega])
  rw [HML.out]
  obtain ⟨W1, hW1⟩ : ∃ V, w.alloc (.cells #[.int .i64 kI, .int .i64 mn, .string qm, .string qs, .string qa, .string qp, .slice fb fn fc, .string qb, .string pa, .string pp, .int .i64 ps, .string pv, .slice cb cn cc, .int .i64 st, .int .i64 sp, .int .i64 ss, .int .i64 sw, .int .i64 sf', .int .i64 sl, .string mb] 38) = V := ⟨_, rfl⟩
  obtain ⟨g1, hg1⟩ : ∃ g1, w.heap.size = g1 := ⟨_, rfl⟩
  have hg := h.lt
  have q1 : W1.heap[g1]? = some (.cells #[.int .i64 kI, .int .i64 mn, .string qm, .string qs, .string qa, .string qp, .slice fb fn fc, .string qb, .string pa, .string pp, .int .i64 ps, .string pv, .slice cb cn cc, .int .i64 st, .int .i64 sp, .int .i64 ss, .int .i64 sw, .int .i64 sf', .int .i64 sl, .string mb] 38 (0, 0)) := by rw [← hW1, heap_al, if_pos hg1.symm]
  have b1 : Below w.heap.size w W1 := by rw [← hW1]; exact bel1 _ _
  have F1 := Fr.below b1 (Nat.le_of_lt hg)
  have hgn : g1 ≠ g := by omega
  have HL := hid (line_any g l (mvB k) W1 (h.below b1) HNM.1 HNM.2)
  have HF1 := hid F1
  have HE := hid hE
  have HQ1 := hid q1
  have HW1 := hid hW1
  have HG1 := hid hg1
  have HR := hid hR
  have HP := hid hP
  have HK := hid hk
  have hnm : W1.cell? ⟨1, k, none⟩ = some (.string (mvB k)) := by
    obtain ⟨tn, hn1⟩ := (F1.env hE g8).mn
    rw [cell_blk hn1 k]
    exact names_at moveL k (by show k < 11; omega)
  have l1 := heap_lt q1
  have e0 := cell_blk q1 0
  simp only [List.getElem?_toArray, List.getElem?_cons_zero, List.getElem?_cons_succ] at e0
  have hkI0 : (0 : Int) ≤ kI := by omega
  have hkI1 : kI < 11 := by omega
  have hkT : kI.toNat = k := by omega
  have hw1s : 1 < W1.heap.size := by have := (F1.env hE g8).sz; omega
  rw [← hkT] at hnm
  have HKT := hid hkT
  clear hk hkT hE h q1 b1 F1 hW1 HNM hR hP
  go_enter Tryz.func69, Tryz.ntmps69
  simp only [mvA, Sl.v]
  go_upto_region 1 with fail
  rw [HW1.out]
  try rw [HG1.out]
  go_upto_region 2 with (go_at_call 70; (try rw [HKT.out]); refine HL.out.mono ?_; rintro e V ⟨rfl, hp, hf⟩)
  have hF := hid (HF1.out.trans hf)
  have hq := fr_blk hf hgn HQ1.out (by decide)
  have lq := heap_lt hq
  have c0 := cell_blk hq 0
  have c1 := cell_blk hq 1
  have c2 := cell_blk hq 2
  have c3 := cell_blk hq 3
  have c4 := cell_blk hq 4
  have c5 := cell_blk hq 5
  have c6 := cell_blk hq 6
  have c7 := cell_blk hq 7
  have c8 := cell_blk hq 8
  have c9 := cell_blk hq 9
  have c10 := cell_blk hq 10
  have c11 := cell_blk hq 11
  have c12 := cell_blk hq 12
  have c13 := cell_blk hq 13
  have c14 := cell_blk hq 14
  have c15 := cell_blk hq 15
  have c16 := cell_blk hq 16
  have c17 := cell_blk hq 17
  have c18 := cell_blk hq 18
  have c19 := cell_blk hq 19
  simp only [List.getElem?_toArray, List.getElem?_cons_zero, List.getElem?_cons_succ] at c0 c1 c2 c3 c4 c5 c6 c7 c8 c9 c10 c11 c12 c13 c14 c15 c16 c17 c18 c19
  have HQ := hid hq
  have HPB := hid hp
  have HEV := hid (hf.env (HF1.out.env HE.out g8) g8)
  clear hq hp hf e0 l1 hnm HQ1 HL
  by_cases e1 : kI = 1
  · subst e1
    go_wp2_with fail
    go_at_call 95
    refine (HR.out (by first | trivial | rfl) _ V HPB.out hF.out).mono ?_
    rintro e V2 ⟨rfl, h1, h2⟩
    go_wp2_with fail
    go_end0
    exact ⟨rfl, h1, hF.out.trans h2⟩
  by_cases e8 : kI = 8
  · subst e8
    go_wp2_with fail
    go_at_call 96
    refine (HP.out (by first | trivial | rfl) _ V HPB.out hF.out).mono ?_
    rintro e V2 ⟨rfl, h1, h2⟩
    go_wp2_with fail
    go_end0
    exact ⟨rfl, h1, hF.out.trans h2⟩
  by_cases e9 : kI = 9
  · subst e9
    go_wp2_with fail
    go_at_call 97
    refine (pset_any g _ ⟨st, sp, ss, sw, sf', sl⟩ V HEV.out g8 HPB.out hsi).mono ?_
    rintro e V2 ⟨rfl, h1, h2⟩
    go_wp2_with fail
    go_end0
    exact ⟨rfl, h1, hF.out.trans h2⟩
  by_cases e10 : kI = 10
  · subst e10
    have HN := hid (num1 (n := mn) HEV.out g8 HPB.out hmn rfl)
    go_wp2_with fail
    go_at_call 72
    refine HN.out.mono ?_
    rintro e V2 ⟨rfl, h1, h2⟩
    have hq2 := fr_blk h2 hgn HQ.out (by decide)
    have d19 := cell_blk hq2 19
    have l19 := heap_lt hq2
    simp only [List.getElem?_toArray, List.getElem?_cons_zero, List.getElem?_cons_succ] at d19
    have HT := hid (txt1 (s := mb) h1 hby rfl)
    have HF2 := hid (hF.out.trans h2)
    clear h1 h2 hq2
    go_wp2_with fail
    go_at_call 98
    refine HT.out.mono ?_
    rintro e V3 ⟨rfl, h1, h2⟩
    go_wp2_with fail
    go_end0
    exact ⟨rfl, h1, HF2.out.trans h2⟩
  have d1 : (kI == 1) = false := by simpa using e1
  have d8 : (kI == 8) = false := by simpa using e8
  have d9 : (kI == 9) = false := by simpa using e9
  have d10 : (kI == 10) = false := by simpa using e10
  have HN := hid (num1 (n := mn) HEV.out g8 HPB.out hmn rfl)
  have HM : Hid (mvT (lineL l (mvB k)) ⟨kI, mn, ⟨qm, qs, qa, qp, qb, qf⟩, ⟨pa, pp, ps, pv, pc⟩, ⟨st, sp, ss, sw, sf', sl⟩, mb⟩ = numsL (lineL l (mvB k)) [mn]) := hid (by
    have hkt := HKT.out
    have hk := HK.out
    unfold mvT
    simp only
    split <;> first | (exfalso; omega) | rfl)
  go_wp2_with fail
  go_at_call 72
  refine HN.out.mono ?_
  rintro e V2 ⟨rfl, h1, h2⟩
  go_wp2_with fail
  go_end0
  refine ⟨rfl, ?_, hF.out.trans h2⟩
  rw [HM.out]
  exact h1
end Go.Proofs.YtghppkfopglgaaaGreatDoor
namespace Go.Proofs.YtghppkfopglgaaaGreatDoor
open Go.RowKit
set_option linter.unusedVariables false
set_option linter.unusedSimpArgs false
theorem run_loadVar_part {P : Program} (w : World) (g off : Nat) (t ty : TypeId) (cs vs : Array Value) (fr : Nat × Nat) (d : TypeDesc) (hg : w.heap[g]? = some (.cells cs t fr)) (hp : (cs.toList.drop off).take vs.toList.length = vs.toList)
    (hu : P.underlying ty = some d) (hd : (match d with | .struct _ | .array _ _ => true | _ => false) = true) (hi : (P.info? ty).map (·.size) = some vs.size) :
    (loadVar ty ⟨g, off, none⟩).run P w = .ok (.agg vs) w := by
  have hl : (loadCells ⟨g, off, none⟩ vs.toList.length).run P w = .ok vs.toList.toArray w :=
    run_loadCells_list (P := P) w ⟨g, off, none⟩ vs.toList (fun j v hv => by
      rw [Addr.add_lit, cell_blk hg, ← Array.getElem?_toList]
      rw [← hp, List.getElem?_take] at hv
      split at hv
      · rw [List.getElem?_drop] at hv; exact hv
      · cases hv)
  cases hq : P.info? ty with
  | none => simp [hq] at hi
  | some i =>
    have hs : i.size = vs.size := by simpa [hq] using hi
    have hagg : (isAgg ty).run P w = .ok true w := by
      unfold isAgg
      rw [Sem.run_bind, run_underlying hu w]
      cases d <;> simp_all
    simp only [Array.length_toList, Array.toArray_toList] at hl
    simp [loadVar, Sem.run_bind, hagg, sizeOf, typeInfo, hq, hs, hl]
theorem wpList_load_part {P : Program} {ops : Array Oper} {rest : List Oper} {o : Oper} {a : Act} {w : World} {Q : Exit → Act → World → Prop} (hgd : o.guard = none) (ty : TypeId) (x : Operand) (ho : o.op = .load ty x)
    (g off : Nat) (vs : Array Value) (hx : a.eval x = .pointer (some ⟨g, off, none⟩)) (t : TypeId) (cs : Array Value) (fr : Nat × Nat) (d : TypeDesc) (hg : w.heap[g]? = some (.cells cs t fr)) (hp : (cs.toList.drop off).take vs.toList.length = vs.toList)
    (hu : P.underlying ty = some d) (hd : (match d with | .struct _ | .array _ _ => true | _ => false) = true) (hi : (P.info? ty).map (·.size) = some vs.size)
    (h : wpList P ops Q rest (a.put o.dst (.agg vs)) w) : wpList P ops Q (o :: rest) a w :=
  wpList_plain hgd fun _ hK => by
    unfold Oper.wp execOp
    simp only [ho, hx, Instr.loadAt, Instr.sureAddr, Sem.run_bind, Sem.run_pure, Result.andThen_ok, run_loadVar_part w g off t ty cs vs fr d hg hp hu hd hi]
    exact hK _ _ h
theorem kd_names : ∀ k : Fin 11, 1 ≤ k.val → k.val ≠ 2 → (kdB k.val).size ≠ 0 ∧ (kdB k.val).size ≤ 1048576 := by decide +kernel
/-- what a command's rows must be for it to be printed, in the worlds of the printer's work -/
structure PrOk (g : Nat) (c : Cm) (s : CmS) (w : World) : Prop where
  rq : c.k = 2 → c.m.k = 1 → ∀ l V, Pb g l V → Fr g w V → Calls Tryz.prog 95 #[.pointer (some ⟨g, 0, none⟩), .agg (rqA c.m.rq s.sf.v)] V fun e w' => e = .returned (.tuple #[]) ∧ Pb g (rqL l c.m.rq) w' ∧ Fr g V w'
  pg : c.k = 2 → c.m.k = 8 → ∀ l V, Pb g l V → Fr g w V → Calls Tryz.prog 96 #[.pointer (some ⟨g, 0, none⟩), .agg (pgA c.m.pg s.sc)] V fun e w' => e = .returned (.tuple #[]) ∧ Pb g (pgL l c.m.pg) w' ∧ Fr g V w'
  wo : c.k = 1 → ∀ l V, Pb g l V → Fr g w V → Calls Tryz.prog 71 #[.pointer (some ⟨g, 0, none⟩), .agg (woA c.w s.sp s.su s.so)] V fun e w' => e = .returned (.tuple #[]) ∧ Pb g (woL l c.w) w' ∧ Fr g V w'
theorem PrOk.fr {g : Nat} {c : Cm} {s : CmS} {w V : World} (h : PrOk g c s w) (f : Fr g w V) : PrOk g c s V :=
  ⟨fun a b l W p q => h.rq a b l W p (f.trans q), fun a b l W p q => h.pg a b l W p (f.trans q), fun a l W p q => h.wo a l W p (f.trans q)⟩
set_option maxRecDepth 100000 in
set_option maxHeartbeats 8000000 in
theorem pcommand_any (g : Nat) (l : List UInt8) (c : Cm) (s : CmS) (w : World) (hE : Env w) (g8 : 8 ≤ g) (h : Pb g l w) (hI : CmOk c) (hK : KOk c) (hby : c.m.by'.size ≤ 140737488355328) (hPr : PrOk g c s w) :
    Calls Tryz.prog 46 #[.pointer (some ⟨g, 0, none⟩), .agg (cmA c s)] w fun e w' => e = .returned (.tuple #[]) ∧ Pb g (cmL l c) w' ∧ Fr g w w' := by
  obtain ⟨W1, hW1⟩ : ∃ V, w.alloc (.cells (cmA c s) 47) = V := ⟨_, rfl⟩
  obtain ⟨g1, hg1⟩ : ∃ g1, w.heap.size = g1 := ⟨_, rfl⟩
  have hg := h.lt
  have q1 : W1.heap[g1]? = some (.cells (cmA c s) 47 (0, 0)) := by rw [← hW1, heap_al, if_pos hg1.symm]
  have b1 : Below w.heap.size w W1 := by rw [← hW1]; exact bel1 _ _
  have F1 := Fr.below b1 (Nat.le_of_lt hg)
  have hgn : g1 ≠ g := by omega
  have HM := hid (fun h1 h10 => pmove_any g l c.m s.sf s.sc W1 (F1.env hE g8) g8 (h.below b1) hI.2.1 h1 h10 hby)
  have HL := hid (fun k hk hk2 => line_any g l (kdB k) W1 (h.below b1) hk hk2)
  have HF1 := hid F1
  have HE1 := hid (F1.env hE g8)
  have HPr := hid hPr
  have HPb := hid (h.below b1)
  obtain ⟨⟨i1, i2, i3, i4, i5, i6, i7⟩, i8, i9⟩ := hI
  obtain ⟨k1, k2, k3⟩ := hK
  obtain ⟨kI, ⟨⟨a0, a1, a2, a3, a4, a5⟩, ⟨a6, a7, a8, a9, a10, a11⟩, a12, a13, a14, a15, wp, wu, wo⟩, ⟨mk, mn, ⟨qm, qs, qa, qp, qb, qf⟩, ⟨pa, pp, ps, pv, pc⟩, ⟨st, sp, ss, sw, sf', sl⟩, mb⟩, cN, sv⟩ := c
  obtain ⟨⟨p1, p2, p3⟩, ⟨u1, u2, u3⟩, ⟨o1, o2, o3⟩, ⟨fb, fn, fc⟩, ⟨cb, cn, cc⟩⟩ := s
  simp only at k1 k2 k3 i9
  have l1 := heap_lt q1
  have HW1 := hid hW1
  have HQ1 := hid q1
  have e0' := cell_blk q1 0
  have e1' := cell_blk q1 1
  have e2' := cell_blk q1 2
  have e3' := cell_blk q1 3
  have e4' := cell_blk q1 4
  have e5' := cell_blk q1 5
  have e6' := cell_blk q1 6
  have e7' := cell_blk q1 7
  have e8' := cell_blk q1 8
  have e9' := cell_blk q1 9
  have e10' := cell_blk q1 10
  have e11' := cell_blk q1 11
  have e12' := cell_blk q1 12
  have e13' := cell_blk q1 13
  have e14' := cell_blk q1 14
  have e15' := cell_blk q1 15
  have e16' := cell_blk q1 16
  have e17' := cell_blk q1 17
  have e18' := cell_blk q1 18
  have e19' := cell_blk q1 19
  have e20' := cell_blk q1 20
  have e21' := cell_blk q1 21
  have e22' := cell_blk q1 22
  have e23' := cell_blk q1 23
  have e24' := cell_blk q1 24
  have e25' := cell_blk q1 25
  have e26' := cell_blk q1 26
  have e27' := cell_blk q1 27
  have e28' := cell_blk q1 28
  have e29' := cell_blk q1 29
  have e30' := cell_blk q1 30
  have e31' := cell_blk q1 31
  have e32' := cell_blk q1 32
  have e33' := cell_blk q1 33
  have e34' := cell_blk q1 34
  have e35' := cell_blk q1 35
  have e36' := cell_blk q1 36
  have e37' := cell_blk q1 37
  have e38' := cell_blk q1 38
  have e39' := cell_blk q1 39
  have e40' := cell_blk q1 40
  have e41' := cell_blk q1 41
  simp only [cmA, List.getElem?_toArray, List.getElem?_cons_zero, List.getElem?_cons_succ, Sl.v] at e0' e1' e2' e3' e4' e5' e6' e7' e8' e9' e10' e11' e12' e13' e14' e15' e16' e17' e18' e19' e20' e21' e22' e23' e24' e25' e26' e27' e28' e29' e30' e31' e32' e33' e34' e35' e36' e37' e38' e39' e40' e41'
  clear hE h q1 b1 F1 hW1 hPr i1 i2 i3 i4 i5 i6 i7 i8 hby
  go_enter Tryz.func46, Tryz.ntmps46
  simp only [cmA, Sl.v]
  simp only [cmA, Sl.v] at HW1
  go_upto_region 1 with fail
  rw [HW1.out]
  try rw [hg1]
  by_cases e2 : kI = 2
  · subst e2
    have hm := k3 (by first | trivial | rfl)
    have HCM : Hid (∀ c : Cm, c.k = 2 → cmL l c = mvL l c.m) := hid (fun c h => by unfold cmL; rw [if_pos h])
    go_wp2_with (refine wpList_load_part rfl 38 (.tmp 8) rfl g1 20 (mvA ⟨mk, mn, ⟨qm, qs, qa, qp, qb, qf⟩, ⟨pa, pp, ps, pv, pc⟩, ⟨st, sp, ss, sw, sf', sl⟩, mb⟩ (.slice fb fn fc) (.slice cb cn cc)) rfl 47 _ (0, 0) _ HQ1.out rfl Tryz.underlying38 rfl (by kernel_rfl) ?_)
    go_at_call 69
    refine (HM.out hm.1 hm.2 (fun e l V p q => HPr.out.rq rfl e l V p (HF1.out.trans q)) (fun e l V p q => HPr.out.pg rfl e l V p (HF1.out.trans q))).mono ?_
    rintro e V ⟨rfl, h1, h2⟩
    go_wp2_with fail
    refine bodyPost_ret (results_none rfl _ _ _) rfl ?_
    refine ⟨rfl, ?_, HF1.out.trans h2⟩
    rw [HCM.out _ rfl]
    exact h1
  · have d2 : (kI == 2) = false := by simpa using e2
    obtain ⟨k, hk⟩ : ∃ k : Nat, kI = (k : Int) := ⟨kI.toNat, by omega⟩
    have HNM := kd_names ⟨k, by omega⟩ (by show 1 ≤ k; omega) (by show k ≠ 2; omega)
    simp only at HNM
    have hnm : W1.cell? ⟨0, k, none⟩ = some (.string (kdB k)) := by
      obtain ⟨tn, hn1⟩ := HE1.out.kn
      rw [cell_blk hn1 k]
      exact names_at kindL k (by show k < 11; omega)
    have hkI0 : (0 : Int) ≤ kI := by omega
    have hkI1 : kI < 11 := by omega
    have hkT : kI.toNat = k := by omega
    have hw1s : 0 < W1.heap.size := by omega
    have HCL : Hid (cmL l (⟨kI, ⟨⟨a0, a1, a2, a3, a4, a5⟩, ⟨a6, a7, a8, a9, a10, a11⟩, a12, a13, a14, a15, wp, wu, wo⟩, ⟨mk, mn, ⟨qm, qs, qa, qp, qb, qf⟩, ⟨pa, pp, ps, pv, pc⟩, ⟨st, sp, ss, sw, sf', sl⟩, mb⟩, cN, sv⟩ : Cm) = cmT (lineL l (kdB k)) ⟨kI, ⟨⟨a0, a1, a2, a3, a4, a5⟩, ⟨a6, a7, a8, a9, a10, a11⟩, a12, a13, a14, a15, wp, wu, wo⟩, ⟨mk, mn, ⟨qm, qs, qa, qp, qb, qf⟩, ⟨pa, pp, ps, pv, pc⟩, ⟨st, sp, ss, sw, sf', sl⟩, mb⟩, cN, sv⟩) := hid (by
      unfold cmL
      rw [if_neg e2]
      show cmT (lineL l (kdB kI.toNat)) _ = _
      rw [hkT])
    rw [← hkT] at hnm
    have HKT := hid hkT
    have HK := hid hk
    have HL2 := hid (HL.out k HNM.1 HNM.2)
    clear hk hkT HL HNM HM
    go_upto_region 4 with (go_at_call 70; (try rw [HKT.out]); refine HL2.out.mono ?_; rintro e V ⟨rfl, hp, hf⟩)
    have hq := fr_blk hf hgn HQ1.out (by decide)
    simp only [cmA, Sl.v] at hq
    have lq := heap_lt hq
    have hF := hid (HF1.out.trans hf)
    have HPB := hid hp
    have HEV := hid (hf.env HE1.out g8)
    have HQV := hid hq
    have c0 := cell_blk hq 0
    have c1 := cell_blk hq 1
    have c2 := cell_blk hq 2
    have c3 := cell_blk hq 3
    have c4 := cell_blk hq 4
    have c5 := cell_blk hq 5
    have c6 := cell_blk hq 6
    have c7 := cell_blk hq 7
    have c8 := cell_blk hq 8
    have c9 := cell_blk hq 9
    have c10 := cell_blk hq 10
    have c11 := cell_blk hq 11
    have c12 := cell_blk hq 12
    have c13 := cell_blk hq 13
    have c14 := cell_blk hq 14
    have c15 := cell_blk hq 15
    have c16 := cell_blk hq 16
    have c17 := cell_blk hq 17
    have c18 := cell_blk hq 18
    have c19 := cell_blk hq 19
    have c20 := cell_blk hq 20
    have c21 := cell_blk hq 21
    have c22 := cell_blk hq 22
    have c23 := cell_blk hq 23
    have c24 := cell_blk hq 24
    have c25 := cell_blk hq 25
    have c26 := cell_blk hq 26
    have c27 := cell_blk hq 27
    have c28 := cell_blk hq 28
    have c29 := cell_blk hq 29
    have c30 := cell_blk hq 30
    have c31 := cell_blk hq 31
    have c32 := cell_blk hq 32
    have c33 := cell_blk hq 33
    have c34 := cell_blk hq 34
    have c35 := cell_blk hq 35
    have c36 := cell_blk hq 36
    have c37 := cell_blk hq 37
    have c38 := cell_blk hq 38
    have c39 := cell_blk hq 39
    have c40 := cell_blk hq 40
    have c41 := cell_blk hq 41
    simp only [List.getElem?_toArray, List.getElem?_cons_zero, List.getElem?_cons_succ] at c0 c1 c2 c3 c4 c5 c6 c7 c8 c9 c10 c11 c12 c13 c14 c15 c16 c17 c18 c19 c20 c21 c22 c23 c24 c25 c26 c27 c28 c29 c30 c31 c32 c33 c34 c35 c36 c37 c38 c39 c40 c41
    clear hq hp hf HL2 hnm l1 e0' e1' e2' e3' e4' e5' e6' e7' e8' e9' e10' e11' e12' e13' e14' e15' e16' e17' e18' e19' e20' e21' e22' e23' e24' e25' e26' e27' e28' e29' e30' e31' e32' e33' e34' e35' e36' e37' e38' e39' e40' e41' HQ1
    by_cases e1 : kI = 1
    · subst e1
      have HC1 : Hid (∀ (L : List UInt8) (c : Cm), c.k = 1 → cmT L c = woL L c.w) := hid (fun L c h => by unfold cmT; rw [h]; rfl)
      go_wp2_with (refine wpList_load_part rfl 45 (.tmp 22) rfl g1 1 (woA ⟨⟨a0, a1, a2, a3, a4, a5⟩, ⟨a6, a7, a8, a9, a10, a11⟩, a12, a13, a14, a15, wp, wu, wo⟩ ⟨p1, p2, p3⟩ ⟨u1, u2, u3⟩ ⟨o1, o2, o3⟩) rfl 47 _ (0, 0) _ HQV.out rfl Tryz.underlying45 rfl (by kernel_rfl) ?_)
      go_at_call 71
      refine (HPr.out.wo (by first | trivial | rfl) _ V HPB.out hF.out).mono ?_
      rintro e V2 ⟨rfl, h1, h2⟩
      go_wp2_with fail
      go_end0
      refine ⟨rfl, ?_, hF.out.trans h2⟩
      rw [HCL.out, HC1.out _ _ rfl]
      exact h1
    by_cases e3 : kI = 3
    · subst e3
      have HC3 : Hid (∀ (L : List UInt8) (c : Cm), c.k = 3 → cmT L c = numsL L [c.n]) := hid (fun L c h => by unfold cmT; rw [h]; rfl)
      have HN := hid (num1 (n := cN) HEV.out g8 HPB.out i9 rfl)
      go_wp2_with fail
      go_at_call 72
      refine HN.out.mono ?_
      rintro e V2 ⟨rfl, h1, h2⟩
      go_wp2_with fail
      go_end0
      refine ⟨rfl, ?_, hF.out.trans h2⟩
      rw [HCL.out, HC3.out _ _ rfl]
      exact h1
    by_cases e10 : kI = 10
    · subst e10
      have HC10 : Hid (∀ (L : List UInt8) (c : Cm), c.k = 10 → cmT L c = wordL L (if c.sv then nServer else nClient)) := hid (fun L c h => by unfold cmT; rw [h]; rfl)
      cases sv with
      | true =>
        have HT := hid (traced_any true V)
        have HWD := hid (word_any g (lineL l (kdB k)) nServer V HPB.out (by decide) (by decide))
        go_wp2_with fail
        go_at_call 74
        refine HT.out.mono ?_
        rintro e V2 ⟨rfl, ev⟩
        subst ev
        go_wp2_with fail
        go_at_call 73
        refine HWD.out.mono ?_
        rintro e V2 ⟨rfl, h1, h2⟩
        go_wp2_with fail
        go_end0
        refine ⟨rfl, ?_, hF.out.trans h2⟩
        rw [HCL.out, HC10.out _ _ rfl]
        exact h1
      | false =>
        have HT := hid (traced_any false V)
        have HWD := hid (word_any g (lineL l (kdB k)) nClient V HPB.out (by decide) (by decide))
        go_wp2_with fail
        go_at_call 74
        refine HT.out.mono ?_
        rintro e V2 ⟨rfl, ev⟩
        subst ev
        go_wp2_with fail
        go_at_call 73
        refine HWD.out.mono ?_
        rintro e V2 ⟨rfl, h1, h2⟩
        go_wp2_with fail
        go_end0
        refine ⟨rfl, ?_, hF.out.trans h2⟩
        rw [HCL.out, HC10.out _ _ rfl]
        exact h1
    have d1 : (kI == 1) = false := by simpa using e1
    have d3 : (kI == 3) = false := by simpa using e3
    have d10 : (kI == 10) = false := by simpa using e10
    go_wp2_with fail
    go_end0
    refine ⟨rfl, ?_, hF.out⟩
    rw [HCL.out]
    have HM2 : cmT (lineL l (kdB k)) ⟨kI, ⟨⟨a0, a1, a2, a3, a4, a5⟩, ⟨a6, a7, a8, a9, a10, a11⟩, a12, a13, a14, a15, wp, wu, wo⟩, ⟨mk, mn, ⟨qm, qs, qa, qp, qb, qf⟩, ⟨pa, pp, ps, pv, pc⟩, ⟨st, sp, ss, sw, sf', sl⟩, mb⟩, cN, sv⟩ = lineL l (kdB k) := by
      have hkt := HKT.out
      have hk := HK.out
      unfold cmT
      simp only
      split <;> first | (exfalso; omega) | rfl
    rw [HM2]
    exact HPB.out
end Go.Proofs.YtghppkfopglgaaaGreatDoor
namespace Go.Proofs.YtghppkfopglgaaaGreatDoor
open Go.RowKit
set_option linter.unusedVariables false
set_option linter.unusedSimpArgs false
def noneB (c : Cm) : Bool := if c.k = 2 then decide (c.m.k < 1) || decide (10 < c.m.k) else decide (c.k < 1) || decide (10 < c.k)
set_option maxRecDepth 100000 in
set_option maxHeartbeats 4000000 in
theorem isNone_any (c : Cm) (s : CmS) (w : World) : Calls Tryz.prog 28 #[.agg (cmA c s)] w fun e w' => e = .returned (.bool (noneB c)) ∧ Below w.heap.size w w' := by
  obtain ⟨W1, hW1⟩ : ∃ V, w.alloc (.cells (cmA c s) 47) = V := ⟨_, rfl⟩
  have q1 : W1.heap[w.heap.size]? = some (.cells (cmA c s) 47 (0, 0)) := by rw [← hW1, heap_al, if_pos rfl]
  have b1 : Below w.heap.size w W1 := by rw [← hW1]; exact bel1 _ _
  have e0 := cell_blk q1 0
  have e20 := cell_blk q1 20
  rw [show (cmA c s)[0]? = some (.int .i64 c.k) from rfl] at e0
  rw [show (cmA c s)[20]? = some (.int .i64 c.m.k) from rfl] at e20
  have l1 := heap_lt q1
  obtain ⟨cs, hcs⟩ : ∃ cs, cmA c s = cs := ⟨_, rfl⟩
  rw [hcs] at hW1
  rw [hcs]
  unfold noneB
  generalize c.k = k at e0 ⊢
  generalize c.m.k = mk at e20 ⊢
  have HW1 := hid hW1
  have HB := hid b1
  clear q1 b1 hcs hW1
  by_cases h2 : k = 2
  · subst h2
    rw [if_pos rfl]
    by_cases ha : mk < 1
    · have x1 : decide (mk < 1) = true := decide_eq_true ha
      rw [x1, Bool.true_or]
      go_enter Tryz.func28, Tryz.ntmps28
      go_upto_region 1 with fail
      rw [HW1.out]
      go_wp2_with fail
      go_ret
      exact ⟨rfl, HB.out⟩
    · have x1 : decide (mk < 1) = false := decide_eq_false ha
      rw [x1, Bool.false_or]
      go_enter Tryz.func28, Tryz.ntmps28
      go_upto_region 1 with fail
      rw [HW1.out]
      go_wp2_with fail
      go_ret
      exact ⟨rfl, HB.out⟩
  · rw [if_neg h2]
    have y2 : (k == 2) = false := by simpa using h2
    by_cases ha : k < 1
    · have x1 : decide (k < 1) = true := decide_eq_true ha
      rw [x1, Bool.true_or]
      go_enter Tryz.func28, Tryz.ntmps28
      go_upto_region 1 with fail
      rw [HW1.out]
      go_wp2_with fail
      go_ret
      exact ⟨rfl, HB.out⟩
    · have x1 : decide (k < 1) = false := decide_eq_false ha
      rw [x1, Bool.false_or]
      go_enter Tryz.func28, Tryz.ntmps28
      go_upto_region 1 with fail
      rw [HW1.out]
      go_wp2_with fail
      go_ret
      exact ⟨rfl, HB.out⟩
end Go.Proofs.YtghppkfopglgaaaGreatDoor
