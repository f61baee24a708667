/- List. -/
import Derived.Test.YtbifmikndpeafaaDoorC3
import Derived.Maps.Ext
namespace Go.Proofs.YtbifmikndpeafaaDoor
open Go.RowKit Go.Maps
set_option linter.unusedVariables false
set_option linter.unusedSimpArgs false
theorem R.setw {α : Type} {E : El α} (ok : E.Ok) {w : World} {g n c : Nat} {l : List α} {j i : Nat} {y : α} (h : R E w (.slice (some ⟨g, 0, none⟩) n c) (l.set j y)) (hj : j < l.length) (hi : i < E.sz) (u : Value) (x : α) (hx : E.enc x = (E.enc y).set i u) :
    R E (w.setCell ⟨g, j * E.sz + i, none⟩ u) (.slice (some ⟨g, 0, none⟩) n c) (l.set j x) := by
  obtain ⟨g', cap, e, _, _, _, _, _, _, q⟩ := h.setc ok j i (by rw [List.length_set]; exact hj) hi
  injection e with e1 e2 e3
  injection e1 with e1
  injection e1 with e1
  subst e1
  have := q u x (by rw [hx]; simp)
  rw [List.set_set] at this
  exact this
/-- an origin of a row written over -/
def setR (w : World) (g j : Nat) (f : Og) : World := ((w.setCell ⟨g, j * 3, none⟩ (.string f.s)).setCell ⟨g, j * 3 + 1, none⟩ (.string f.h)).setCell ⟨g, j * 3 + 2, none⟩ (.int .i64 f.p)
theorem R.setR {w : World} {g n c : Nat} {l : List Og} (h : R EO w (.slice (some ⟨g, 0, none⟩) n c) l) (j : Nat) (hj : j < l.length) (f : Og) : R EO (setR w g j f) (.slice (some ⟨g, 0, none⟩) n c) (l.set j f) := by
  have h0 : R EO w (.slice (some ⟨g, 0, none⟩) n c) (l.set j l[j]) := by rw [List.set_getElem_self]; exact h
  obtain ⟨X, hX⟩ : ∃ X, l[j] = X := ⟨_, rfl⟩
  rw [hX] at h0
  have h1 := h0.setw okO hj (i := 0) (by decide) (.string f.s) ⟨f.s, X.h, X.p⟩ rfl
  have h2 := h1.setw okO hj (i := 1) (by decide) (.string f.h) ⟨f.s, f.h, X.p⟩ rfl
  exact h2.setw okO hj (i := 2) (by decide) (.int .i64 f.p) f rfl
/-- what is there of an origin of a row -/
theorem R.cellsR {w : World} {g n c : Nat} {l : List Og} (h : R EO w (.slice (some ⟨g, 0, none⟩) n c) l) (j : Nat) (hj : j < l.length) : w.cell? ⟨g, j * 3, none⟩ = some (.string l[j].s) ∧ w.cell? ⟨g, j * 3 + 1, none⟩ = some (.string l[j].h) ∧ w.cell? ⟨g, j * 3 + 2, none⟩ = some (.int .i64 l[j].p) ∧ w.frozen? ⟨g, j * 3, none⟩ = false ∧ w.frozen? ⟨g, j * 3 + 1, none⟩ = false ∧ w.frozen? ⟨g, j * 3 + 2, none⟩ = false := by
  obtain ⟨g', cap', e5, x1, x2, g2, x3, g3, g4, x4⟩ := h.setc okO j 0 hj (by decide)
  injection e5 with e5 e6 e7
  injection e5 with e5
  injection e5 with e5
  subst e5
  exact ⟨g3 0 _ rfl, g3 1 _ rfl, g3 2 _ rfl, g4 _, g4 _, g4 _⟩
theorem grow_of {w w' : World} {B : Nat} (h : Below B w w') (hB : w.heap.size ≤ B) : w.grownBy w' none := ⟨h.os, h.tape, h.output, h.size, fun k hk _ => h.block k (Nat.lt_of_lt_of_le hk hB)⟩
theorem grow_set (w : World) (g off : Nat) (v : Value) : w.grownBy (w.setCell ⟨g, off, none⟩ v) (some g) := ⟨rfl, rfl, rfl, by simp [World.setCell], fun k hk hne => setCell_other _ _ _ _ _ (fun e => hne (by rw [e]))⟩
theorem R.whole {α : Type} {E : El α} (ok : E.Ok) {w : World} {g : Nat} {c : Array Value} (l : List α) (hl : l.length ≤ 64) (h : w.heap[g]? = some (.cells c E.e (0, 0))) (hc : c.toList = E.cs l) : R E w (.slice (some ⟨g, 0, none⟩) l.length l.length) l := by
  have hs : c.size = l.length * E.sz := by rw [← Array.length_toList, hc, ok.length]
  refine ⟨by rw [ok.length], .inr ⟨g, l.length, c, rfl, Nat.zero_le _, h, Nat.le_refl _, by unfold maxLen; omega, hs, ?_⟩⟩
  rw [← hs, ← hc, List.take_of_length_le (by simp)]
theorem info23 : (Tryd.prog.info? 23).map (fun i => (i.zero, i.size, i.bytes)) = some (some (.agg #[.string ⟨#[]⟩, .string ⟨#[]⟩, .int .i64 0]), 3, 40) := by kernel_rfl
theorem made_cells (n : Nat) : (madeCells #[.string ⟨#[]⟩, .string ⟨#[]⟩, .int .i64 0] (n * 3)).toList = EO.cs (List.replicate n og0) := by
  induction n with
  | zero => simp [madeCells, El.cs]
  | succ n ih =>
    have e0 : (n * 3) % 3 = 0 := by omega
    have e1 : (n * 3 + 1) % 3 = 1 := by omega
    have e2 : (n * 3 + 2) % 3 = 2 := by omega
    unfold madeCells at ih ⊢
    rw [Nat.succ_mul, List.replicate_succ', El.cs_append, ← ih]
    simp only [Array.toList_map, Array.toList_range, List.range_succ, List.map_append, List.map_cons, List.map_nil, List.append_assoc]
    congr 1
    show [#[Value.string ⟨#[]⟩, Value.string ⟨#[]⟩, Value.int .i64 0][(n * 3) % 3]!, #[Value.string ⟨#[]⟩, Value.string ⟨#[]⟩, Value.int .i64 0][(n * 3 + 1) % 3]!, #[Value.string ⟨#[]⟩, Value.string ⟨#[]⟩, Value.int .i64 0][(n * 3 + 2) % 3]!] = _
    rw [e0, e1, e2]
    rfl
theorem made_o (n : Nat) (h16 : n ≤ 16) : ∃ M : Array Value, M.toList = EO.cs (List.replicate n og0) ∧ ∀ W : World, (Instr.makeSlice 35 (.int .i64 (n : Int)) (.int .i64 (n : Int))).run Tryd.prog W = .ok (.slice (some ⟨W.heap.size, 0, none⟩) n n) (W.alloc (.cells M 23)) := by
  obtain ⟨i0, hi, hz0, hz1, hz2⟩ := info_parts info23
  refine ⟨madeCells (Value.agg #[.string ⟨#[]⟩, .string ⟨#[]⟩, .int .i64 0]).cells (n * 3), ?_, fun W => ?_⟩
  · have hcl : (Value.agg #[.string ⟨#[]⟩, .string ⟨#[]⟩, .int .i64 0]).cells = #[.string ⟨#[]⟩, .string ⟨#[]⟩, .int .i64 0] := by first | rfl | kernel_rfl | simp [Value.cells]
    rw [hcl]
    exact made_cells n
  · have h := run_make (P := Tryd.prog) W 35 23 i0 (.agg #[.string ⟨#[]⟩, .string ⟨#[]⟩, .int .i64 0]) Tryd.underlying35 hi hz0 .i64 .i64 (n : Int) (n : Int) (by omega) (by omega) (by rw [hz2]; omega) (by omega)
    rw [hz1] at h
    simpa using h
/-- the next of a set's origins, with its place -/
theorem wpList_next_o {ops : Array Oper} {rest : List Oper} {o : Oper} {a : Act} {Q : Exit → Act → World → Prop} (w : World) (hg : o.guard = none) (it : Operand) (hop : o.op = Op.next it false) (b r n : Nat) (L : List Og) (hz : OgZ L) (hnd : L.Nodup) (left : Lit → Bool) (cnt : Nat)
    (hit : a.eval it = .pointer (some ⟨r, 0, none⟩)) (h : w.ranges Tryd.prog 23 hd b r n (mO L) left cnt)
    (hDone : cnt = 0 → (∀ kl, left kl = false) → wpList Tryd.prog ops Q rest (a.put o.dst (.tuple #[.bool false])) w)
    (hMore : ∀ (i : Nat) (z : Og) (w' : World) (cnt' : Nat), L[i]? = some z → left (klO z) = true → w'.ranges Tryd.prog 23 hd b r n (mO L) (fun x => left x && !x.sameKey (klO z)) cnt' → cnt' < cnt →
      w.grownBy w' (some r) → w'.heap.size = w.heap.size → (Instr.entry (.pointer (some ⟨r, 0, none⟩))).run Tryd.prog w' = .ok (.tuple #[.agg #[.string z.s, .string z.h, .int .i64 z.p], .int .i64 (i : Int)]) w' → wpList Tryd.prog ops Q rest (a.put o.dst (.tuple #[.bool true, .agg #[.string z.s, .string z.h, .int .i64 z.p], .int .i64 (i : Int)])) w') :
    wpList Tryd.prog ops Q (o :: rest) a w := by
  refine wpList_plain hg fun K' hK' => ?_
  unfold Oper.wp
  rcases h.next KO o.type with ⟨h0, hl, hrun⟩ | ⟨key, v, kl, y, w', cnt', hkey, hlk, hv, hat, hrun, hrg, hlt, hgr, hsz, hen⟩
  · simp [execOp, hop, hit, hrun, Result.andThen]
    exact hK' _ _ (hDone h0 hl)
  · have hh : has (mO L) kl = true := Maps.has_true_of_atKey hat
    obtain ⟨z, hzm, rfl⟩ := mO_key hz hh
    obtain ⟨i, hi, e⟩ := List.getElem_of_mem hzm
    have hk2 : key = .agg (ogv z) := (KO.inj hkey (key_of z (hz z hzm)))
    have h2 := hat (.held (.int .i64 0))
    rw [← e, mO_at hz hnd i hi] at h2
    unfold hd at hv
    injection hv with hv
    subst hv
    simp only at h2
    injection h2 with h2
    subst hk2
    rw [← h2] at hrun hen
    simp [execOp, hop, hit, hrun, Result.andThen]
    exact hK' _ _ (hMore i z w' cnt' (by rw [List.getElem?_eq_getElem hi, e]) hlk hrg hlt hgr hsz hen)
/-- the row's origins that have been met are there -/
def Lm (L : List Og) (left : Lit → Bool) (M : List Og) : Prop := M.length = L.length ∧ ∀ (i : Nat) (z : Og), L[i]? = some z → left (klO z) = false → M[i]? = some z
theorem Lm.step {L M : List Og} {left : Lit → Bool} (h : Lm L left M) (hz : OgZ L) (hnd : L.Nodup) {i : Nat} {z : Og} (hi : L[i]? = some z) : Lm L (fun x => left x && !x.sameKey (klO z)) (M.set i z) := by
  have hil : i < L.length := (List.getElem?_eq_some_iff.1 hi).1
  have hzm : z ∈ L := List.mem_of_getElem? hi
  refine ⟨by rw [List.length_set]; exact h.1, fun j y hj hl => ?_⟩
  by_cases e : i = j
  · subst e
    rw [hi] at hj
    injection hj with hj
    subst hj
    rw [List.getElem?_set_self (by rw [h.1]; exact hil)]
  · rw [List.getElem?_set_ne e]
    apply h.2 j y hj
    have hym : y ∈ L := List.mem_of_getElem? hj
    have hne : (klO y).sameKey (klO z) = false := by
      cases hs : (klO y).sameKey (klO z)
      · rfl
      · exfalso
        have hyz := klO_inj (hz y hym) (hz z hzm) (WideAt.sameKey_eq hs)
        subst hyz
        have h1 := List.getElem?_eq_some_iff.1 hi
        have h2 := List.getElem?_eq_some_iff.1 hj
        exact e ((List.getElem_inj hnd).1 (h1.2.trans h2.2.symm))
    simp only [hne] at hl
    simpa using hl
theorem Lm.done {L M : List Og} {left : Lit → Bool} (h : Lm L left M) (hl : ∀ kl, left kl = false) : M = L := by
  apply List.ext_getElem?
  intro i
  cases hi : L[i]? with
  | none =>
    rw [List.getElem?_eq_none_iff] at hi ⊢
    rw [h.1]
    exact hi
  | some z => exact h.2 i z hi (hl _)
def LiPost (L : List Og) (w : World) (e : Ending) (w' : World) : Prop := ∃ N, e = .returned (.slice (some ⟨N, 0, none⟩) L.length L.length) ∧ R EO w' (.slice (some ⟨N, 0, none⟩) L.length L.length) L ∧ w.heap.size ≤ N ∧ Below w.heap.size w w'
set_option maxHeartbeats 8000000 in
set_option maxRecDepth 100000 in
theorem list_any (lo p b : Nat) (L : List Og) (w : World) (hS : Se w lo p b L) : Calls Tryd.prog 16 #[.pointer (some ⟨p, 0, none⟩)] w (LiPost L w) := by
  have hlt := hS.lt
  obtain ⟨nn, hnn, hown⟩ := hS.own
  have HZ : Hid (OgZ L) := hS.oz
  have HND : Hid L.Nodup := hS.nd
  have HL16 : Hid (L.length ≤ 16) := hS.len
  have dp : w.cell? ⟨p, 0, none⟩ = some (.map (some b)) := cell_blk hS.hp 0
  obtain ⟨k, hk⟩ : ∃ k, L.length = k := ⟨_, rfl⟩
  have HK : Hid (L.length = k) := hk
  have hsz : size (mO L) = k := by rw [← hk]; exact (mO_size hS.oz).2.2 hS.nd
  have hlen := hown.len Tryd.underlying60 3
  rw [hsz] at hlen
  obtain ⟨M, hM, hmk⟩ := made_o k (by rw [← hk]; exact hS.len)
  obtain ⟨N, hN⟩ : ∃ N, w.heap.size = N := ⟨_, rfl⟩
  have HN : Hid (w.heap.size = N) := hN
  obtain ⟨W0, hW0⟩ : ∃ W, w.alloc (.cells M 23) = W := ⟨_, rfl⟩
  have hmk0 := hmk w
  rw [hW0, hN] at hmk0
  have HR0 : Hid (R EO W0 (.slice (some ⟨N, 0, none⟩) k k) (List.replicate k og0)) := by
    have h1 := R.whole okO (w := W0) (g := N) (c := M) (List.replicate k og0) (by rw [List.length_replicate, ← hk]; have := hS.len; omega) (by rw [← hW0, ← hN, heap_al, if_pos rfl]; rfl) hM
    rw [List.length_replicate] at h1
    exact h1
  have HB0 : Hid (Below N w W0) := by rw [← hW0, ← hN]; exact bel1 _ _
  have HS0 : Hid (W0.heap.size = N + 1) := by show _ = _; rw [← hW0, size_al, hN]
  have hown0 : W0.ownsMap Tryd.prog 23 hd b nn (mO L) := by rw [← hW0]; exact hown.alloc _
  have dp0 : W0.cell? ⟨p, 0, none⟩ = some (.map (some b)) := by rw [← hW0]; exact ((bel1 w _).cell hlt.1).trans dp
  have hbN : b < N := by rw [← hN]; exact hlt.2
  have HPost : Hid (∀ W', R EO W' (.slice (some ⟨N, 0, none⟩) k k) L → Below N w W' → LiPost L w (.returned (.slice (some ⟨N, 0, none⟩) k k)) W') := fun W' h1 h2 => ⟨N, by rw [HK.out], by rw [HK.out]; exact h1, by rw [HN.out]; exact Nat.le_refl _, by rw [HN.out]; exact h2⟩
  clear hS hlt hown hsz hM hmk hW0 hk
  clear hnn
  go_enter Tryd.func16, Tryd.ntmps16
  go_wp2_with (first
    | (at_range; refine wpList_range_own _ rfl _ 60 rfl 23 3 KO Tryd.underlying60 _ b _ _ rfl hown0 ?_; intro w0 hrg0 hg0 hs0)
    | go_in)
  go_frame
  have HRG0 : Hid (w0.ranges Tryd.prog 23 hd b W0.heap.size nn (mO L) (has (mO L)) (size (mO L))) := hrg0
  have HBw0 : Hid (Below W0.heap.size W0 w0) := ⟨hg0.os, hg0.tape, hg0.output, hg0.size, fun i hi => hg0.block i hi (by simp)⟩
  obtain ⟨r, hr⟩ : ∃ r, W0.heap.size = r := ⟨_, rfl⟩
  rw [hr] at HRG0 HBw0
  have HrN : Hid (r = N + 1) := by show _ = _; rw [← hr, HS0.out]
  rw [hr]
  clear hrg0 hg0 hs0 hr hown0 dp0 dp hlen hmk0
  go_loopw [4, 5] (fun _ _ wr => ∃ (left : Lit → Bool) (cnt : Nat) (Mr : List Og), Hid (wr.ranges Tryd.prog 23 hd b r nn (mO L) left cnt ∧ R EO wr (.slice (some ⟨N, 0, none⟩) k k) Mr ∧ Lm L left Mr ∧ Below N w wr ∧ r < wr.heap.size)) (fun _ _ wr => wr.rangeLeft b r)
  case atStart => exact ⟨_, _, List.replicate k og0, HRG0.out, HR0.out.below (by rw [HS0.out, ← HrN.out]; exact HBw0.out), ⟨by rw [List.length_replicate, HK.out], fun i z hi hl => by rw [(mO_has HZ.out (HZ.out z (List.mem_of_getElem? hi))).2 (List.mem_of_getElem? hi)] at hl; cases hl⟩, HB0.out.trans (HBw0.out.mono (by rw [HrN.out]; omega)), HRG0.out.lt⟩
  case round =>
    obtain ⟨left, cnt, Mr, hJ⟩ := hrel
    have hrg := hJ.out.1
    go_wp2_with (first
      | (at_next; refine wpList_next_o _ rfl _ rfl b r _ L HZ.out HND.out _ _ rfl hrg ?_ ?_)
      | go_in)
    · intro hc0 hl0
      have HF : Hid (Mr = L) := hJ.out.2.2.1.done hl0
      have HRF : Hid (R EO wr (.slice (some ⟨N, 0, none⟩) k k) L) := by have := hJ.out.2.1; rw [HF.out] at this; exact this
      have HBF : Hid (Below N w wr) := hJ.out.2.2.2.1
      clear hrg hc0 hl0 hJ
      go_wp2_with fail
      go_ret
      exact HPost.out _ HRF.out HBF.out
    · intro i z w2 cnt2 hiz hlk hrg2 hlt2 hg2 hs2 hen
      have HIZ : Hid (L[i]? = some z) := hiz
      have HRG2 : Hid (w2.ranges Tryd.prog 23 hd b r nn (mO L) (fun x => left x && !x.sameKey (klO z)) cnt2) := hrg2
      have hil : i < k := by rw [← HK.out]; exact (List.getElem?_eq_some_iff.1 hiz).1
      have HR2 : Hid (R EO w2 (.slice (some ⟨N, 0, none⟩) k k) Mr) := hJ.out.2.1.stays fun j hj hl => hg2.block j hl (fun e => by
        have e1 := Option.some.inj e
        simp [Value.ownBlock] at hj
        have := HrN.out
        omega)
      have HB2 : Hid (Below N w w2) := hJ.out.2.2.2.1.trans ⟨hg2.os, hg2.tape, hg2.output, hg2.size, fun j hj => hg2.block j (by have := hJ.out.2.2.2.2; have := HrN.out; omega) (fun e => by have e1 := Option.some.inj e; have := HrN.out; omega)⟩
      have HS2 : Hid (r < w2.heap.size) := by show _ < _; rw [hs2]; exact hJ.out.2.2.2.2
      have HLm : Hid (Lm L (fun x => left x && !x.sameKey (klO z)) (Mr.set i z)) := hJ.out.2.2.1.step HZ.out HND.out hiz
      have HML : Hid (Mr.length = k) := by show _ = _; rw [hJ.out.2.2.1.1, HK.out]
      have HRL : Hid (cnt2 < cnt ∧ wr.rangeLeft b r = cnt) := ⟨hlt2, hrg.left_eq⟩
      have HCp : Hid (∀ W, Calls Tryd.prog 28 #[.agg #[.string z.s, .string z.h, .int .i64 z.p]] W fun e w' => e = .returned (.agg #[.string z.s, .string z.h, .int .i64 z.p]) ∧ Below W.heap.size W w') := fun W => copied_any z W (HZ.out z (List.mem_of_getElem? hiz)).1
      have hil' : (i : Int) < (k : Int) := by omega
      clear hrg hlk hrg2 hlt2 hg2 hs2 hJ hiz
      go_wp2_with fail
      go_at_call 28
      refine (HCp.out _).mono ?_
      rintro e W3 ⟨rfl, b3⟩
      have B3 : Below w2.heap.size w2 W3 := (bel1 _ _).trans (b3.mono (bel1 _ _).size)
      have HR3 : Hid (R EO W3 (.slice (some ⟨N, 0, none⟩) k k) Mr) := HR2.out.below B3
      have HRG3 : Hid (W3.ranges Tryd.prog 23 hd b r nn (mO L) (fun x => left x && !x.sameKey (klO z)) cnt2) := HRG2.out.kept (grow_of B3 (Nat.le_refl _)) (by simp) (by simp)
      have HB3 : Hid (Below N w W3) := HB2.out.trans (B3.mono (by have := HS2.out; have := HrN.out; omega))
      have HS3 : Hid (r < W3.heap.size) := Nat.lt_of_lt_of_le HS2.out B3.size
      clear b3 B3
      obtain ⟨c0, c1, c2, f0, f1, f2⟩ := HR3.out.cellsR i (by rw [HML.out]; exact hil)
      obtain ⟨X, hX⟩ : ∃ X, Mr[i]'(by rw [HML.out]; exact hil) = X := ⟨_, rfl⟩
      rw [hX] at c0 c1 c2
      have HRn : Hid (R EO (setR W3 N i z) (.slice (some ⟨N, 0, none⟩) k k) (Mr.set i z)) := HR3.out.setR i (by rw [HML.out]; exact hil) z
      have HBn : Hid (Below N w (setR W3 N i z)) := ((HB3.out.setCell (p := ⟨N, i * 3, none⟩) (by simp) _).setCell (p := ⟨N, i * 3 + 1, none⟩) (by simp) _).setCell (p := ⟨N, i * 3 + 2, none⟩) (by simp) _
      have HGn : Hid ((setR W3 N i z).ranges Tryd.prog 23 hd b r nn (mO L) (fun x => left x && !x.sameKey (klO z)) cnt2) := by
        have q1 : some b ≠ some N := fun e => by have := Option.some.inj e; omega
        have q2 : some r ≠ some N := fun e => by have := Option.some.inj e; have := HrN.out; omega
        exact ((HRG3.out.kept (grow_set _ _ _ _) q1 q2).kept (grow_set _ _ _ _) q1 q2).kept (grow_set _ _ _ _) q1 q2
      have HSn : Hid (r < (setR W3 N i z).heap.size) := by show _ < _; unfold setR; simp [World.setCell]; exact HS3.out
      unfold setR at HRn HBn HGn HSn
      clear hX
      go_wp2_with fail
      go_roundw
      case rel => exact ⟨_, cnt2, Mr.set i z, HGn.out, HRn.out, HLm.out, HBn.out, HSn.out⟩
      case measure => rw [HGn.out.left_eq, HRL.out.2]; exact HRL.out.1
end Go.Proofs.YtbifmikndpeafaaDoor
