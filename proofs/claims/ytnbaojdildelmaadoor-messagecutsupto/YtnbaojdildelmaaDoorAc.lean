/- ReadRequest. -/
import Derived.Test.YtnbaojdildelmaaDoorAb
import Derived.Test.YtnbaojdildelmaaDoorM2
import Derived.Laws.ResultCell
import Derived.Deep.QuietTactic
import Derived.BigQuiet
namespace Go.Proofs.YtnbaojdildelmaaDoor
open Go.RowKit Go.Maps
set_option linter.unusedVariables false
set_option linter.unusedSimpArgs false

def reqNames : List ByteArray := [⟨#[58, 109, 101, 116, 104, 111, 100]⟩, ⟨#[58, 115, 99, 104, 101, 109, 101]⟩, ⟨#[58, 97, 117, 116, 104, 111, 114, 105, 116, 121]⟩, ⟨#[58, 112, 97, 116, 104]⟩]
def resNames : List ByteArray := [⟨#[58, 115, 116, 97, 116, 117, 115]⟩]
/-- a request's cells -/
def rqv (m s a p : ByteArray) (f : Value) (b : ByteArray) : Array Value := #[.string m, .string s, .string a, .string p, f, .string b]
def RqB (w : World) (g : Nat) (m s a p : ByteArray) (f : Value) (b : ByteArray) : Prop := w.heap[g]? = some (.cells (rqv m s a p f b) 37 (0, 0))
/-- are the four values a request's? -/
def headB (m s a p : ByteArray) : Bool := consB methB 64 m && schemeB s && consB visB 4096 a && pathB p m
/-- the error that ReadRequest tells -/
def rqE (l : List Fd) : Int :=
  if rdE l reqNames ≠ 0 then rdE l reqNames else match vals l 4 reqNames with | some [m, s, a, p] => if headB m s a p = true then 0 else 131 | _ => 131
def RqPost (l : List Fd) (w : World) (e : Ending) (w' : World) : Prop :=
  ∃ (m s a p : ByteArray) (y : SV), e = .returned (.tuple #[.agg (rqv m s a p (sv y) ⟨#[]⟩), .int .i64 (rqE l)]) ∧ Below w.heap.size w w' ∧
    (rqE l = 0 → vals l 4 reqNames = some [m, s, a, p] ∧ headB m s a p = true ∧ R EFd w' (sv y) (l.drop 4) ∧ ∀ k, (sv y).ownBlock = some k → w.heap.size ≤ k) ∧ (rqE l ≠ 0 → m = ⟨#[]⟩ ∧ s = ⟨#[]⟩ ∧ a = ⟨#[]⟩ ∧ p = ⟨#[]⟩ ∧ y = (none, 0, 0))

theorem in_names (w : World) (l : List ByteArray) (g : Nat) (c : Array Value) (h : w.heap[g]? = some (.cells c 9 (0, 0))) (hc : c.toList = l.map fun s => Value.string s) (hl : l.length ≤ 64) : In ES w (.slice (some ⟨g, 0, none⟩) l.length l.length) l := by
  refine .inr ⟨_, l.length, rfl, Nat.le_refl _, by omega, fun j u hu => ?_⟩
  rw [Addr.add_lit, cell_blk h, Nat.zero_add, ← Array.getElem?_toList, hc]
  have : ES.cs l = l.map fun s => Value.string s := by
    clear h hc hl hu
    induction l with
    | nil => rfl
    | cons a r ih => simp only [El.cs, List.flatMap_cons, ES, List.cons_append, List.nil_append, List.map_cons] at ih ⊢; rw [ih]
  rw [← this]
  exact hu
theorem vals_four {vs : List ByteArray} (h : vs.length = 4) : ∃ a b c d, vs = [a, b, c, d] := by
  match vs, h with
  | [a, b, c, d], _ => exact ⟨a, b, c, d, rfl⟩

theorem below_drewN {B : Nat} {a w : World} (h : Below B a w) (n : Nat) : Below B a (w.drewN n) := h.trans ⟨rfl, rfl, rfl, Nat.le_refl _, fun _ _ => rfl⟩
theorem results_ct {P : Program} {fn : Func} {p r : Tmp} {ty : TypeId} (h : fn.results = #[.cell p ty, .tmp r]) (tmps : Array Value) (w : World) (g : Nat) (t : TypeId) (cs : Array Value) (fr : Nat × Nat) (d : TypeDesc)
    (hp : tmps.getD p undef = .pointer (some ⟨g, 0, none⟩)) (hg : w.heap[g]? = some (.cells cs t fr)) (hu : P.underlying ty = some d) (hd : (match d with | .struct _ | .array _ _ => true | _ => false) = true) (hi : (P.info? ty).map (·.size) = some cs.size) :
    (results fn tmps).run P w = .ok (.tuple #[.agg cs, tmps.getD r undef]) w := by
  have hp' : tmps[p]?.getD undef = .pointer (some ⟨g, 0, none⟩) := by simpa using hp
  simp [results, h, hp', asAddr, run_loadVar_row w g t ty cs fr d hg hu hd hi]
theorem rq_sets {w : World} {g : Nat} {m s a p b : ByteArray} {f : Value} (h : RqB w g m s a p f b) (m' s' a' p' b' : ByteArray) (f' : Value) :
    RqB ((((((w.setCell ⟨g, 0, none⟩ (.string m')).setCell ⟨g, 1, none⟩ (.string s')).setCell ⟨g, 2, none⟩ (.string a')).setCell ⟨g, 3, none⟩ (.string p')).setCell ⟨g, 4, none⟩ f').setCell ⟨g, 5, none⟩ (.string b')) g m' s' a' p' f' b' := by
  unfold RqB
  rw [setCell_block _ _ _ _ _ _ _ (setCell_block _ _ _ _ _ _ _ (setCell_block _ _ _ _ _ _ _ (setCell_block _ _ _ _ _ _ _ (setCell_block _ _ _ _ _ _ _ (setCell_block _ _ _ _ _ _ _ h)))))]
  simp only [rqv, List.setIfInBounds_toArray, List.set_cons_zero, List.set_cons_succ]
theorem rq_other (w : World) (g k : Nat) (hk : k ≠ g) (v0 v1 v2 v3 v4 v5 : Value) : ((((((w.setCell ⟨g, 0, none⟩ v0).setCell ⟨g, 1, none⟩ v1).setCell ⟨g, 2, none⟩ v2).setCell ⟨g, 3, none⟩ v3).setCell ⟨g, 4, none⟩ v4).setCell ⟨g, 5, none⟩ v5).heap[k]? = w.heap[k]? := by
  rw [setCell_other _ _ _ _ _ hk, setCell_other _ _ _ _ _ hk, setCell_other _ _ _ _ _ hk, setCell_other _ _ _ _ _ hk, setCell_other _ _ _ _ _ hk, setCell_other _ _ _ _ _ hk]
theorem rq_below (w : World) (g B : Nat) (hB : B ≤ g) (v0 v1 v2 v3 v4 v5 : Value) : Below B w ((((((w.setCell ⟨g, 0, none⟩ v0).setCell ⟨g, 1, none⟩ v1).setCell ⟨g, 2, none⟩ v2).setCell ⟨g, 3, none⟩ v3).setCell ⟨g, 4, none⟩ v4).setCell ⟨g, 5, none⟩ v5) :=
  ((((((Below.refl B w).setCell (p := ⟨g, 0, none⟩) hB _).setCell (p := ⟨g, 1, none⟩) hB _).setCell (p := ⟨g, 2, none⟩) hB _).setCell (p := ⟨g, 3, none⟩) hB _).setCell (p := ⟨g, 4, none⟩) hB _).setCell (p := ⟨g, 5, none⟩) hB _

set_option maxHeartbeats 20000000 in
set_option maxRecDepth 100000 in
theorem readRequest_any (s : SV) (l : List Fd) (w : World) (hI : In EFd w (sv s) l) (hz : ∀ f ∈ l, f.n.size ≤ 140737488355328) :
    Calls Tryd.prog 27 #[sv s] w fun e w' => RqPost l w e w' := by
  have hC : Hid (∀ W, Below w.heap.size w W → ∀ t, In ES W (sv t) reqNames → Calls Tryd.prog 35 #[sv s, sv t] W fun e w' => RdPost l reqNames W e w') := fun W hb t ht => read_any s t l reqNames W (hI.below hb) ht (by decide) (by decide) hz (by decide)
  have h4 : reqNames.length = 4 := rfl
  obtain ⟨sb, sl, sc⟩ := s
  simp only [sv] at hC ⊢
  clear hI hz
  go_enter Tryd.func27, Tryd.ntmps27
  go_wp2_with fail
  go_at_call 35
  have b0 := bel2 w (.cells #[.string ⟨#[]⟩, .string ⟨#[]⟩, .string ⟨#[]⟩, .string ⟨#[]⟩, .slice none 0 0, .string ⟨#[]⟩] 37) (.cells #[.string ⟨#[58, 109, 101, 116, 104, 111, 100]⟩, .string ⟨#[58, 115, 99, 104, 101, 109, 101]⟩, .string ⟨#[58, 97, 117, 116, 104, 111, 114, 105, 116, 121]⟩, .string ⟨#[58, 112, 97, 116, 104]⟩] 9)
  refine (hC.out _ b0 (some ⟨w.heap.size + 1, 0, none⟩, 4, 4) (in_names _ reqNames _ _ (fresh2 _ _ _) rfl (by decide))).mono ?_
  rintro e w1 ⟨⟨vb, vl, vc⟩, ⟨pb, pl, pc⟩, rfl, hb, hr⟩
  have Q1 : RqB w1 w.heap.size ⟨#[]⟩ ⟨#[]⟩ ⟨#[]⟩ ⟨#[]⟩ (.slice none 0 0) ⟨#[]⟩ := by
    refine (hb.block _ (by rw [size_al, size_al]; omega)).trans ?_
    rw [heap_al, if_neg (by rw [size_al]; omega), heap_al, if_pos rfl]
    rfl
  have B1 : Hid (Below w.heap.size w w1) := b0.trans (hb.mono b0.size)
  have hl1 : w.heap.size < w1.heap.size := heap_lt Q1
  have HR : Hid (rdE l reqNames = 0 → ∃ vs, vals l 4 reqNames = some vs ∧ vs.length = 4 ∧ R ES w1 (.slice vb vl vc) vs ∧ R EFd w1 (.slice pb pl pc) (l.drop 4) ∧ (∀ k, (Value.slice pb pl pc).ownBlock = some k → w.heap.size < k)) := fun h0 => by
    obtain ⟨vs, r1, r2, r3, r4, r5, r6⟩ := hr h0
    exact ⟨vs, r1, r2, r3, r4, fun k hk => by have := r6 k hk; rw [size_al, size_al] at this; omega⟩
  obtain ⟨z0, z1, z2, z3, z4, z5⟩ : w1.cell? ⟨w.heap.size, 0, none⟩ = some (.string ⟨#[]⟩) ∧ w1.cell? ⟨w.heap.size, 1, none⟩ = some (.string ⟨#[]⟩) ∧ w1.cell? ⟨w.heap.size, 2, none⟩ = some (.string ⟨#[]⟩) ∧ w1.cell? ⟨w.heap.size, 3, none⟩ = some (.string ⟨#[]⟩) ∧ w1.cell? ⟨w.heap.size, 4, none⟩ = some (.slice none 0 0) ∧ w1.cell? ⟨w.heap.size, 5, none⟩ = some (.string ⟨#[]⟩) := ⟨cell_blk Q1 0, cell_blk Q1 1, cell_blk Q1 2, cell_blk Q1 3, cell_blk Q1 4, cell_blk Q1 5⟩
  obtain ⟨y0, y1, y2, y3, y4, y5⟩ : w1.frozen? ⟨w.heap.size, 0, none⟩ = false ∧ w1.frozen? ⟨w.heap.size, 1, none⟩ = false ∧ w1.frozen? ⟨w.heap.size, 2, none⟩ = false ∧ w1.frozen? ⟨w.heap.size, 3, none⟩ = false ∧ w1.frozen? ⟨w.heap.size, 4, none⟩ = false ∧ w1.frozen? ⟨w.heap.size, 5, none⟩ = false := ⟨frozen_blk Q1 0, frozen_blk Q1 1, frozen_blk Q1 2, frozen_blk Q1 3, frozen_blk Q1 4, frozen_blk Q1 5⟩
  replace Q1 : Hid (RqB w1 w.heap.size ⟨#[]⟩ ⟨#[]⟩ ⟨#[]⟩ ⟨#[]⟩ (.slice none 0 0) ⟨#[]⟩) := Q1
  simp only [sv]
  clear hC hb hr b0
  obtain ⟨E, hE⟩ : ∃ E, rdE l reqNames = E := ⟨_, rfl⟩
  rw [hE] at HR ⊢
  have HE : Hid (rdE l reqNames = E) := hE
  clear hE
  by_cases h0 : E = 0
  · obtain ⟨vs, r1, r2, r3, r4, r6⟩ := HR.out h0
    obtain ⟨m, s, a, p, rfl⟩ := vals_four r2
    subst h0
    have hIn := r3.isIn
    rcases hIn with ⟨_, hx⟩ | ⟨ad, c, e1, e2, e3, hcs⟩
    · cases hx
    obtain ⟨g, o, sp⟩ := ad
    have d0' := hcs 0 (.string m) rfl
    have d1 := hcs 1 (.string s) rfl
    have d2 := hcs 2 (.string a) rfl
    have d3 := hcs 3 (.string p) rfl
    have hsp := spot_none d0'
    simp only [Addr.add] at hsp
    subst hsp
    simp only [Addr.add_lit] at d0' d1 d2 d3
    have d0 : w1.cell? ⟨g, o, none⟩ = some (.string m) := d0'
    injection e1 with e1 e4 e5
    simp only [List.length_cons, List.length_nil, Nat.zero_add] at e2 e4
    subst e1
    subst e4
    subst e5
    clear d0' hcs r3 r2
    have hq : Hid (rqE l = if headB m s a p = true then 0 else 131) := by
      show _ = _
      unfold rqE
      rw [HE.out, if_neg (by simp), r1]
    have HV : Hid (vals l 4 reqNames = some [m, s, a, p] ∧ R EFd w1 (.slice pb pl pc) (l.drop 4) ∧ (∀ k, (Value.slice pb pl pc).ownBlock = some k → w.heap.size < k)) := ⟨r1, r4, r6⟩
    have c1 : Hid (∀ W, Calls Tryd.prog 36 #[.string m] W fun e w' => e = .returned (.bool (consB methB 64 m)) ∧ Below W.heap.size W w') := fun W => method_any m W
    have c2 : Hid (∀ W, Calls Tryd.prog 37 #[.string s] W fun e w' => e = .returned (.bool (schemeB s)) ∧ Below W.heap.size W w') := fun W => scheme_any s W
    have c3 : Hid (∀ W, Calls Tryd.prog 38 #[.string a] W fun e w' => e = .returned (.bool (consB visB 4096 a)) ∧ Below W.heap.size W w') := fun W => authority_any a W
    have c4 : Hid (∀ W, Calls Tryd.prog 39 #[.string p, .string m] W fun e w' => e = .returned (.bool (pathB p m)) ∧ Below W.heap.size W w') := fun W => path_any p m W
    have hfin : Hid (∀ w5, Below w1.heap.size w1 w5 → headB m s a p = false → ∀ X, X = ((((((w5.setCell ⟨w.heap.size, 0, none⟩ (.string ⟨#[]⟩)).setCell ⟨w.heap.size, 1, none⟩ (.string ⟨#[]⟩)).setCell ⟨w.heap.size, 2, none⟩ (.string ⟨#[]⟩)).setCell ⟨w.heap.size, 3, none⟩ (.string ⟨#[]⟩)).setCell ⟨w.heap.size, 4, none⟩ (.slice none 0 0)).setCell ⟨w.heap.size, 5, none⟩ (.string ⟨#[]⟩)) → RqB X w.heap.size ⟨#[]⟩ ⟨#[]⟩ ⟨#[]⟩ ⟨#[]⟩ (.slice none 0 0) ⟨#[]⟩ ∧ RqPost l w (.returned (.tuple #[.agg (rqv ⟨#[]⟩ ⟨#[]⟩ ⟨#[]⟩ ⟨#[]⟩ (.slice none 0 0) ⟨#[]⟩), .int .i64 131])) X) := fun w5 hb hh X hX => by
      have hq' : rqE l = 131 := by rw [hq.out, hh]; rfl
      subst hX
      refine ⟨rq_sets ((hb.block _ hl1).trans Q1.out) _ _ _ _ _ _, ⟨#[]⟩, ⟨#[]⟩, ⟨#[]⟩, ⟨#[]⟩, (none, 0, 0), by rw [hq']; rfl, (B1.out.trans (hb.mono B1.out.size)).trans (rq_below _ _ _ (Nat.le_refl _) _ _ _ _ _ _), fun h => by rw [hq'] at h; exact absurd h (by decide), fun _ => ⟨rfl, rfl, rfl, rfl, rfl⟩⟩
    have hgood : Hid (∀ w5, Below w1.heap.size w1 w5 → headB m s a p = true → ∀ X, X = ((((((w5.setCell ⟨w.heap.size, 0, none⟩ (.string m)).setCell ⟨w.heap.size, 1, none⟩ (.string s)).setCell ⟨w.heap.size, 2, none⟩ (.string a)).setCell ⟨w.heap.size, 3, none⟩ (.string p)).setCell ⟨w.heap.size, 4, none⟩ (.slice pb pl pc)).setCell ⟨w.heap.size, 5, none⟩ (.string ⟨#[]⟩)) → RqB X w.heap.size m s a p (.slice pb pl pc) ⟨#[]⟩ ∧ RqPost l w (.returned (.tuple #[.agg (rqv m s a p (.slice pb pl pc) ⟨#[]⟩), .int .i64 0])) X) := fun w5 hb hh X hX => by
      have hq' : rqE l = 0 := by rw [hq.out, hh]; rfl
      subst hX
      refine ⟨rq_sets ((hb.block _ hl1).trans Q1.out) _ _ _ _ _ _, m, s, a, p, (pb, pl, pc), by rw [hq']; rfl, (B1.out.trans (hb.mono B1.out.size)).trans (rq_below _ _ _ (Nat.le_refl _) _ _ _ _ _ _), fun _ => ⟨HV.out.1, hh, (R.below HV.out.2.1 hb).stays fun k hk _ => rq_other _ _ _ (by have := HV.out.2.2 k hk; omega) _ _ _ _ _ _, fun k hk => Nat.le_of_lt (HV.out.2.2 k hk)⟩, fun h => absurd hq' h⟩
    have hcl : Hid (∀ W, Below w1.heap.size w1 W → (W.cell? ⟨w.heap.size, 0, none⟩ = some (.string ⟨#[]⟩) ∧ W.cell? ⟨w.heap.size, 1, none⟩ = some (.string ⟨#[]⟩) ∧ W.cell? ⟨w.heap.size, 2, none⟩ = some (.string ⟨#[]⟩) ∧ W.cell? ⟨w.heap.size, 3, none⟩ = some (.string ⟨#[]⟩) ∧ W.cell? ⟨w.heap.size, 4, none⟩ = some (.slice none 0 0) ∧ W.cell? ⟨w.heap.size, 5, none⟩ = some (.string ⟨#[]⟩)) ∧ W.frozen? ⟨w.heap.size, 0, none⟩ = false ∧ W.frozen? ⟨w.heap.size, 1, none⟩ = false ∧ W.frozen? ⟨w.heap.size, 2, none⟩ = false ∧ W.frozen? ⟨w.heap.size, 3, none⟩ = false ∧ W.frozen? ⟨w.heap.size, 4, none⟩ = false ∧ W.frozen? ⟨w.heap.size, 5, none⟩ = false ∧ w.heap.size < W.heap.size) := fun W hb => by
      have q : RqB W w.heap.size ⟨#[]⟩ ⟨#[]⟩ ⟨#[]⟩ ⟨#[]⟩ (.slice none 0 0) ⟨#[]⟩ := (hb.block _ hl1).trans Q1.out
      exact ⟨⟨cell_blk q 0, cell_blk q 1, cell_blk q 2, cell_blk q 3, cell_blk q 4, cell_blk q 5⟩, frozen_blk q 0, frozen_blk q 1, frozen_blk q 2, frozen_blk q 3, frozen_blk q 4, frozen_blk q 5, heap_lt q⟩
    have hd0 : Hid (∀ W, Below w1.heap.size w1 W → Below w1.heap.size w1 W) := fun _ h => h
    clear r1 r4 r6 HR z0 z1 z2 z3 z4 z5 y0 y1 y2 y3 y4 y5
    go_wp2_with fail
    go_quiet (fail)
    have D0 : Hid (Below w1.heap.size w1 (w1.drewN nq)) := below_drewN (Below.refl _ _) _
    clear hd0 HV hq
    cases hm1 : consB methB 64 m
    · have H1 : Hid (consB methB 64 m = false) := hm1
      rw [hm1] at c1
      clear hm1
      go_wp2_with fail
      go_at_call 36
      refine (c1.out _).mono ?_
      rintro e x1 ⟨rfl, hb⟩
      have D1 : Hid (Below w1.heap.size w1 x1) := D0.out.trans (hb.mono D0.out.size)
      clear hb
      obtain ⟨⟨z0, z1, z2, z3, z4, z5⟩, y0, y1, y2, y3, y4, y5, hlW⟩ := hcl.out _ D1.out
      have HH : Hid (headB m s a p = false) := by show _ = _; unfold headB; rw [H1.out]; simp
      go_wp2_with fail
      obtain ⟨q1, q2⟩ := hfin.out _ D1.out HH.out _ rfl
      refine bodyPost_ret (results_ct (p := 2) (ty := 37) (r := 3) rfl _ _ w.heap.size 37 (rqv ⟨#[]⟩ ⟨#[]⟩ ⟨#[]⟩ ⟨#[]⟩ (.slice none 0 0) ⟨#[]⟩) (0, 0) _ rfl q1 Tryd.underlying37 rfl (by kernel_rfl)) rfl q2
    · have H1 : Hid (consB methB 64 m = true) := hm1
      rw [hm1] at c1
      clear hm1
      go_wp2_with fail
      go_at_call 36
      refine (c1.out _).mono ?_
      rintro e x1 ⟨rfl, hb⟩
      have D1 : Hid (Below w1.heap.size w1 x1) := D0.out.trans (hb.mono D0.out.size)
      clear hb
      cases hm2 : schemeB s
      · have H2 : Hid (schemeB s = false) := hm2
        rw [hm2] at c2
        clear hm2
        go_wp2_with fail
        go_at_call 37
        refine (c2.out _).mono ?_
        rintro e x2 ⟨rfl, hb⟩
        have D2 : Hid (Below w1.heap.size w1 x2) := D1.out.trans (hb.mono D1.out.size)
        clear hb
        obtain ⟨⟨z0, z1, z2, z3, z4, z5⟩, y0, y1, y2, y3, y4, y5, hlW⟩ := hcl.out _ D2.out
        have HH : Hid (headB m s a p = false) := by show _ = _; unfold headB; rw [H1.out, H2.out]; simp
        go_wp2_with fail
        obtain ⟨q1, q2⟩ := hfin.out _ D2.out HH.out _ rfl
        refine bodyPost_ret (results_ct (p := 2) (ty := 37) (r := 3) rfl _ _ w.heap.size 37 (rqv ⟨#[]⟩ ⟨#[]⟩ ⟨#[]⟩ ⟨#[]⟩ (.slice none 0 0) ⟨#[]⟩) (0, 0) _ rfl q1 Tryd.underlying37 rfl (by kernel_rfl)) rfl q2
      · have H2 : Hid (schemeB s = true) := hm2
        rw [hm2] at c2
        clear hm2
        go_wp2_with fail
        go_at_call 37
        refine (c2.out _).mono ?_
        rintro e x2 ⟨rfl, hb⟩
        have D2 : Hid (Below w1.heap.size w1 x2) := D1.out.trans (hb.mono D1.out.size)
        clear hb
        cases hm3 : consB visB 4096 a
        · have H3 : Hid (consB visB 4096 a = false) := hm3
          rw [hm3] at c3
          clear hm3
          go_wp2_with fail
          go_at_call 38
          refine (c3.out _).mono ?_
          rintro e x3 ⟨rfl, hb⟩
          have D3 : Hid (Below w1.heap.size w1 x3) := D2.out.trans (hb.mono D2.out.size)
          clear hb
          obtain ⟨⟨z0, z1, z2, z3, z4, z5⟩, y0, y1, y2, y3, y4, y5, hlW⟩ := hcl.out _ D3.out
          have HH : Hid (headB m s a p = false) := by show _ = _; unfold headB; rw [H1.out, H2.out, H3.out]; simp
          go_wp2_with fail
          obtain ⟨q1, q2⟩ := hfin.out _ D3.out HH.out _ rfl
          refine bodyPost_ret (results_ct (p := 2) (ty := 37) (r := 3) rfl _ _ w.heap.size 37 (rqv ⟨#[]⟩ ⟨#[]⟩ ⟨#[]⟩ ⟨#[]⟩ (.slice none 0 0) ⟨#[]⟩) (0, 0) _ rfl q1 Tryd.underlying37 rfl (by kernel_rfl)) rfl q2
        · have H3 : Hid (consB visB 4096 a = true) := hm3
          rw [hm3] at c3
          clear hm3
          go_wp2_with fail
          go_at_call 38
          refine (c3.out _).mono ?_
          rintro e x3 ⟨rfl, hb⟩
          have D3 : Hid (Below w1.heap.size w1 x3) := D2.out.trans (hb.mono D2.out.size)
          clear hb
          cases hm4 : pathB p m
          · have H4 : Hid (pathB p m = false) := hm4
            rw [hm4] at c4
            clear hm4
            go_wp2_with fail
            go_at_call 39
            refine (c4.out _).mono ?_
            rintro e x4 ⟨rfl, hb⟩
            have D4 : Hid (Below w1.heap.size w1 x4) := D3.out.trans (hb.mono D3.out.size)
            clear hb
            obtain ⟨⟨z0, z1, z2, z3, z4, z5⟩, y0, y1, y2, y3, y4, y5, hlW⟩ := hcl.out _ D4.out
            have HH : Hid (headB m s a p = false) := by show _ = _; unfold headB; rw [H1.out, H2.out, H3.out, H4.out]; simp
            go_wp2_with fail
            obtain ⟨q1, q2⟩ := hfin.out _ D4.out HH.out _ rfl
            refine bodyPost_ret (results_ct (p := 2) (ty := 37) (r := 3) rfl _ _ w.heap.size 37 (rqv ⟨#[]⟩ ⟨#[]⟩ ⟨#[]⟩ ⟨#[]⟩ (.slice none 0 0) ⟨#[]⟩) (0, 0) _ rfl q1 Tryd.underlying37 rfl (by kernel_rfl)) rfl q2
          · have H4 : Hid (pathB p m = true) := hm4
            rw [hm4] at c4
            clear hm4
            go_wp2_with fail
            go_at_call 39
            refine (c4.out _).mono ?_
            rintro e x4 ⟨rfl, hb⟩
            have D4 : Hid (Below w1.heap.size w1 x4) := D3.out.trans (hb.mono D3.out.size)
            clear hb
            obtain ⟨⟨z0, z1, z2, z3, z4, z5⟩, y0, y1, y2, y3, y4, y5, hlW⟩ := hcl.out _ D4.out
            have HH : Hid (headB m s a p = true) := by show _ = _; unfold headB; rw [H1.out, H2.out, H3.out, H4.out]; simp
            go_wp2_with fail
            obtain ⟨q1, q2⟩ := hgood.out _ D4.out HH.out _ rfl
            refine bodyPost_ret (results_ct (p := 2) (ty := 37) (r := 3) rfl _ _ w.heap.size 37 (rqv m s a p (.slice pb pl pc) ⟨#[]⟩) (0, 0) _ rfl q1 Tryd.underlying37 rfl (by kernel_rfl)) rfl q2
  · have h0' : (E != 0) = true := by simp [h0]
    have hq : Hid (rqE l = E) := by
      show _ = _
      unfold rqE
      rw [HE.out, if_pos h0]
    have HF : Hid (RqB _ w.heap.size _ _ _ _ _ _) := rq_sets Q1.out ⟨#[]⟩ ⟨#[]⟩ ⟨#[]⟩ ⟨#[]⟩ ⟨#[]⟩ (.slice none 0 0)
    have HB : Hid _ := rq_below w1 w.heap.size w.heap.size (Nat.le_refl _) (.string ⟨#[]⟩) (.string ⟨#[]⟩) (.string ⟨#[]⟩) (.string ⟨#[]⟩) (.slice none 0 0) (.string ⟨#[]⟩)
    have H0 : Hid (E ≠ 0) := h0
    clear h0 HR
    go_wp2_with fail
    refine bodyPost_ret (results_ct (p := 2) (ty := 37) (r := 3) rfl _ _ w.heap.size 37 (rqv ⟨#[]⟩ ⟨#[]⟩ ⟨#[]⟩ ⟨#[]⟩ (.slice none 0 0) ⟨#[]⟩) (0, 0) _ rfl HF.out Tryd.underlying37 rfl (by kernel_rfl)) rfl ⟨⟨#[]⟩, ⟨#[]⟩, ⟨#[]⟩, ⟨#[]⟩, (none, 0, 0), by rw [hq.out]; rfl, B1.out.trans HB.out, fun h => absurd (hq.out.symm.trans h) H0.out, fun _ => ⟨rfl, rfl, rfl, rfl, rfl⟩⟩
end Go.Proofs.YtnbaojdildelmaaDoor
