/- add. -/
import Derived.Test.YtdgdjanchpfleaaA5
import Derived.Deep.Cut
import Derived.Deep.RegionHeld3
namespace Go.Proofs.Ytdgdjanchpfleaa
open Go.RowKit
set_option linter.unusedVariables false
set_option linter.unusedSimpArgs false

theorem results_tct {P : Program} {fn : Func} {r p q : Tmp} {ty : TypeId} (h : fn.results = #[.tmp r, .cell p ty, .tmp q]) (tmps : Array Value) (w : World) (g : Nat) (t : TypeId) (cs : Array Value) (fr : Nat × Nat) (d : TypeDesc)
    (hp : tmps.getD p undef = .pointer (some ⟨g, 0, none⟩)) (hg : w.heap[g]? = some (.cells cs t fr)) (hu : P.underlying ty = some d) (hd : (match d with | .struct _ | .array _ _ => true | _ => false) = true) (hi : (P.info? ty).map (·.size) = some cs.size) :
    (results fn tmps).run P w = .ok (.tuple #[tmps.getD r undef, .agg cs, tmps.getD q undef]) w := by
  have hp' : tmps[p]?.getD undef = .pointer (some ⟨g, 0, none⟩) := by simpa using hp
  simp [results, h, hp', asAddr, run_loadVar_row w g t ty cs fr d hg hu hd hi]
theorem results_tctc {P : Program} {fn : Func} {r p q s : Tmp} {ty tz : TypeId} (h : fn.results = #[.tmp r, .cell p ty, .tmp q, .cell s tz]) (tmps : Array Value) (w : World) (g k : Nat) (t u : TypeId) (cs ds : Array Value) (fr fs : Nat × Nat) (d e : TypeDesc)
    (hp : tmps.getD p undef = .pointer (some ⟨g, 0, none⟩)) (hg : w.heap[g]? = some (.cells cs t fr)) (hu : P.underlying ty = some d) (hd : (match d with | .struct _ | .array _ _ => true | _ => false) = true) (hi : (P.info? ty).map (·.size) = some cs.size)
    (hq : tmps.getD s undef = .pointer (some ⟨k, 0, none⟩)) (hk : w.heap[k]? = some (.cells ds u fs)) (hv : P.underlying tz = some e) (he : (match e with | .struct _ | .array _ _ => true | _ => false) = true) (hj : (P.info? tz).map (·.size) = some ds.size) :
    (results fn tmps).run P w = .ok (.tuple #[tmps.getD r undef, .agg cs, tmps.getD q undef, .agg ds]) w := by
  have hp' : tmps[p]?.getD undef = .pointer (some ⟨g, 0, none⟩) := by simpa using hp
  have hq' : tmps[s]?.getD undef = .pointer (some ⟨k, 0, none⟩) := by simpa using hq
  simp [results, h, hp', hq', asAddr, run_loadVar_row w g t ty cs fr d hg hu hd hi, run_loadVar_row w k u tz ds fs e hk hv he hj]

/-- the head that is kept of a frame -/
def headOf (f : Fr) : Fr := { f with data := ⟨#[]⟩, fl := bits .or .i64 f.fl 4 }
/-- What add begins with: a joiner that is idle, or in the middle; and the head that will be kept. -/
def Mid (st : Js) (f : Fr) (ps : List (Int × Int)) (h : Fr) (qs : List (Int × Int)) (l : List UInt8) : Prop :=
  (st = .idle ∧ isH f.ty ∧ h = headOf f ∧ qs = ps ∧ l = []) ∨ st = .busy h qs l
/-- Behind the head's being kept. -/
structure Ad (w wc : World) (b : Nat) (s : Value) (f : Fr) (q : Value) (h : Fr) (y : SV) (qs : List (Int × Int)) (l : List UInt8) : Prop where
  j : JB wc b h (sv y) s 0
  ih : isH h.ty
  hd : h.data = ⟨#[]⟩
  rp : R EP wc (sv y) qs
  rb : R EB wc s l
  b1 : FB wc w.heap.size f q
  b2 : FB wc (w.heap.size + 1) Fr.zero (.slice none 0 0)
  ks : Ks (fun k => k = b) w wc
  lt : b < w.heap.size
  own : ∀ k, s.ownBlock = some k → k < w.heap.size

theorem own_ne {w : World} {o : Value} {α : Type} {E : El α} {l : List α} (h : R E w o l) {b : Nat} {c : Array Value} {t : TypeId} (hb : w.heap[b]? = some (.cells c t (0, 0))) (ht : t ≠ E.e) : ∀ k, o.ownBlock = some k → k ≠ b := fun k hk e => by
  obtain ⟨c', hc⟩ := h.ty k hk
  rw [e, hb] at hc
  injection hc with hc
  injection hc with _ h2
  exact ht h2

/-- what follows in add: the bytes put behind -/
theorem Ad.app {w wc : World} {b : Nat} {s : Value} {f : Fr} {q : Value} {h : Fr} {y : SV} {qs : List (Int × Int)} {l : List UInt8} (A : Ad w wc b s f q h y qs l) (d : ByteArray) (hl : l.length + d.size ≤ 131072) :
    ∃ x w5, (Builtin.append_ #[30, 9] 30 #[s, .string d]).run Try.prog wc.drew = .ok (sv x) w5 ∧ JB w5 b h (sv y) s 0 ∧ FB w5 w.heap.size f q ∧ FB w5 (w.heap.size + 1) Fr.zero (.slice none 0 0) ∧ R EP w5 (sv y) qs ∧ R EB w5 (sv x) (l ++ d.data.toList) ∧
      Ks (fun k => k = b ∨ s.ownBlock = some k) w w5 ∧ (∀ k, (sv x).ownBlock = some k → s.ownBlock = some k ∨ w.heap.size ≤ k) := by
  have hB0 : Below wc.heap.size wc wc.drew := (Below.refl _ wc).drew
  obtain ⟨base, cap, w5, h1, h2, h3⟩ := app_str wc.drew s l (A.rb.below hB0) d (by omega)
  have nb := own_ne A.rb A.j (by decide)
  have n1 := own_ne A.rb A.b1 (by decide)
  have n2 := own_ne A.rb A.b2 (by decide)
  have blk : ∀ k, k < wc.heap.size → s.ownBlock ≠ some k → w5.heap[k]? = wc.heap[k]? := fun k hk hn => h3.block k hk hn
  refine ⟨(base, l.length + d.size, cap), w5, h1, (blk b A.j.lt fun e => nb b e rfl).trans A.j, (blk _ A.b1.lt fun e => n1 _ e rfl).trans A.b1, (blk _ A.b2.lt fun e => n2 _ e rfl).trans A.b2, A.rp.stays fun k hk hlt => blk k hlt fun e => ?_, h2, ⟨h3.os.trans A.ks.os, h3.tape.trans A.ks.tape, h3.output.trans A.ks.output, Nat.le_trans A.ks.size h3.size, fun k hk hn => ?_⟩, fun k hk => ?_⟩
  · obtain ⟨c1, e1⟩ := A.rp.ty k hk
    exact own_ne A.rb e1 (by decide) k e rfl
  · rw [blk k (Nat.lt_of_lt_of_le hk A.ks.size) (fun e => hn (.inr e))]
    exact A.ks.block k hk (fun e => hn (.inl e))
  · rcases h3.own k hk with h | h
    · exact .inl h
    · exact .inr (Nat.le_trans A.ks.size h)

theorem JB.set11 {w : World} {g : Nat} {f : Fr} {p s : Value} {c : Int} (h : JB w g f p s c) (s' : Value) : JB (w.setCell ⟨g, 11, none⟩ s') g f p s' c := by
  unfold JB
  rw [setCell_block _ _ _ _ _ _ _ h]
  rfl

/-- a block's cell set -/
theorem blk_set {w : World} {b off : Nat} {v : Value} {c c' : Array Value} {t : TypeId} {fz : Nat × Nat} (h : w.heap[b]? = some (.cells c t fz)) (e : c.setIfInBounds off v = c') : (w.setCell ⟨b, off, none⟩ v).heap[b]? = some (.cells c' t fz) := by
  rw [setCell_block _ _ _ _ _ _ _ h, e]


def addMore (f : Fr) (h : Fr) (qs : List (Int × Int)) (l : List UInt8) (w : World) (b : Nat) (s : Value) (e : Ending) (w' : World) : Prop :=
  e = .returned (.tuple #[.bool false, .agg (fv Fr.zero (.slice none 0 0)), .string ⟨#[]⟩]) ∧
      ∃ s', Jn w' b s' (.busy h qs (l ++ f.data.data.toList)) ∧ Ks (fun k => k = b ∨ s.ownBlock = some k) w w' ∧ (∀ k, s'.ownBlock = some k → s.ownBlock = some k ∨ w.heap.size ≤ k)
def addWhole (f : Fr) (h : Fr) (qs : List (Int × Int)) (l : List UInt8) (w : World) (b : Nat) (s : Value) (e : Ending) (w' : World) : Prop :=
  ∃ y : SV, e = .returned (.tuple #[.bool true, .agg (fv h (sv y)), .string (bt (l ++ f.data.data.toList))]) ∧
      Jn w' b (.slice none 0 0) .idle ∧ R EP w' (sv y) qs ∧ Ks (fun k => k = b ∨ s.ownBlock = some k) w w'

/-- the joiner's head, set -/
theorem JB.keep {w : World} {g : Nat} {f0 : Fr} {p0 s : Value} {c : Int} (h : JB w g f0 p0 s c) (f : Fr) (p : Value) : JB (((Go.Proofs.Ytdgdjanchpfleaa.sets w g (fsets f p)).setCell ⟨g, 3, none⟩ (.string ⟨#[]⟩)).setCell ⟨g, 1, none⟩ (.int .i64 (bits .or .i64 f.fl 4))) g (headOf f) p s c := by
  unfold JB
  rw [setCell_block _ _ _ _ _ _ _ (setCell_block _ _ _ _ _ _ _ (sets_block _ _ _ _ _ _ h))]
  simp only [fsets, jv, headOf, List.foldl_cons, List.foldl_nil, List.setIfInBounds_toArray, List.set_cons_zero, List.set_cons_succ]

theorem Ad.idle {w w3 : World} {b : Nat} {f : Fr} {q : Value} {y : SV} {ps : List (Int × Int)} (hj : JB w3 b Fr.zero (.slice none 0 0) (.slice none 0 0) 0) (hh : isH f.ty) (rp : R EP w3 (sv y) ps) (b1 : FB w3 w.heap.size f q) (b2 : FB w3 (w.heap.size + 1) Fr.zero (.slice none 0 0))
    (hb : Below w.heap.size w w3) (hlt : b < w.heap.size) :
    Ad w (((sets w3 b (fsets f (sv y))).setCell ⟨b, 3, none⟩ (.string ⟨#[]⟩)).setCell ⟨b, 1, none⟩ (.int .i64 (bits .or .i64 f.fl 4))) b (.slice none 0 0) f q (headOf f) y ps [] := by
  have ho : ∀ k, k ≠ b → (((sets w3 b (fsets f (sv y))).setCell ⟨b, 3, none⟩ (.string ⟨#[]⟩)).setCell ⟨b, 1, none⟩ (.int .i64 (bits .or .i64 f.fl 4))).heap[k]? = w3.heap[k]? := fun k hk => by
    rw [setCell_other _ _ _ _ _ hk, setCell_other _ _ _ _ _ hk, sets_other _ _ hk]
  have hK := ((sets_ks (fun k => k = b) b rfl (fsets f (sv y)) w3).trans (Ks.setCell (fun k => k = b) (sets w3 b (fsets f (sv y))) b 3 (.string ⟨#[]⟩) rfl) (C := fun k => k = b) (fun _ _ h => h) (fun _ _ h => h)).trans (Ks.setCell (fun k => k = b) ((sets w3 b (fsets f (sv y))).setCell ⟨b, 3, none⟩ (.string ⟨#[]⟩)) b 1 (.int .i64 (bits .or .i64 f.fl 4)) rfl) (C := fun k => k = b) (fun _ _ h => h) (fun _ _ h => h)
  have hJ := hj.keep f (sv y)
  have hR : R EP (((sets w3 b (fsets f (sv y))).setCell ⟨b, 3, none⟩ (.string ⟨#[]⟩)).setCell ⟨b, 1, none⟩ (.int .i64 (bits .or .i64 f.fl 4))) (sv y) ps := rp.stays fun k hk _ => ho k (own_ne rp hj (by decide) k hk)
  have hB1 := (ho w.heap.size (by omega)).trans b1
  have hB2 := (ho (w.heap.size + 1) (by omega)).trans b2
  have hK2 := (Ks.of_below (A := fun k => k = b) hb).trans hK (C := fun k => k = b) (fun _ _ h => h) (fun _ _ h => h)
  generalize (((sets w3 b (fsets f (sv y))).setCell ⟨b, 3, none⟩ (.string ⟨#[]⟩)).setCell ⟨b, 1, none⟩ (.int .i64 (bits .or .i64 f.fl 4))) = X at *
  exact ⟨hJ, hh, rfl, hR, R.nil _ _, hB1, hB2, hK2, hlt, fun k hk => by simp [Value.ownBlock] at hk⟩

theorem more_fin {w w5 : World} {b : Nat} {s : Value} {h : Fr} {y : SV} {qs : List (Int × Int)} {l' : List UInt8} (x : SV) (j5 : JB w5 b h (sv y) s 0) (ih : isH h.ty) (hd : h.data = ⟨#[]⟩) (p2 : FB w5 (w.heap.size + 1) Fr.zero (.slice none 0 0)) (r1 : R EP w5 (sv y) qs) (r2 : R EB w5 (sv x) l')
    (k5 : Ks (fun k => k = b ∨ s.ownBlock = some k) w w5) (hlt : b < w.heap.size) (hl : l'.length ≤ 131072) (o5 : ∀ k, (sv x).ownBlock = some k → s.ownBlock = some k ∨ w.heap.size ≤ k) :
    FB (sets (w5.setCell ⟨b, 11, none⟩ (sv x)) (w.heap.size + 1) (fsets Fr.zero (.slice none 0 0))) (w.heap.size + 1) Fr.zero (.slice none 0 0) ∧
    Jn (sets (w5.setCell ⟨b, 11, none⟩ (sv x)) (w.heap.size + 1) (fsets Fr.zero (.slice none 0 0))) b (sv x) (.busy h qs l') ∧ Ks (fun k => k = b ∨ s.ownBlock = some k) w (sets (w5.setCell ⟨b, 11, none⟩ (sv x)) (w.heap.size + 1) (fsets Fr.zero (.slice none 0 0))) ∧
    (∀ k, (sv x).ownBlock = some k → s.ownBlock = some k ∨ w.heap.size ≤ k) := by
  have h1 := FB.sets (f := Fr.zero) (p := .slice none 0 0) (w := w5.setCell ⟨b, 11, none⟩ (sv x)) ((setCell_other _ _ _ _ _ (by omega)).trans p2) Fr.zero (.slice none 0 0)
  have ho : ∀ k, k ≠ w.heap.size + 1 → k ≠ b → (sets (w5.setCell ⟨b, 11, none⟩ (sv x)) (w.heap.size + 1) (fsets Fr.zero (.slice none 0 0))).heap[k]? = w5.heap[k]? := fun k h1 h2 => (sets_other _ _ h1 _ _).trans (setCell_other _ _ _ _ _ h2)
  have hj : JB (sets (w5.setCell ⟨b, 11, none⟩ (sv x)) (w.heap.size + 1) (fsets Fr.zero (.slice none 0 0))) b h (sv y) (sv x) 0 := (sets_other _ _ (by omega) _ _).trans (j5.set11 (sv x))
  have hs := sets_below (w.heap.size + 1) w.heap.size (by omega) (fsets Fr.zero (.slice none 0 0)) (w5.setCell ⟨b, 11, none⟩ (sv x))
  have hk := (k5.trans (Ks.setCell (fun k => k = b) w5 b 11 (sv x) rfl) (C := fun k => k = b ∨ s.ownBlock = some k) (fun _ _ h => h) (fun _ _ h => .inl h))
  generalize (sets (w5.setCell ⟨b, 11, none⟩ (sv x)) (w.heap.size + 1) (fsets Fr.zero (.slice none 0 0))) = X at *
  generalize (w5.setCell ⟨b, 11, none⟩ (sv x)) = Y at *
  refine ⟨h1, ⟨y, hj, ih, hd, r1.stays fun k hk _ => ho k (own_ne r1 p2 (by decide) k hk) (own_ne r1 j5 (by decide) k hk), r2.stays fun k hk _ => ho k (own_ne r2 p2 (by decide) k hk) (own_ne r2 j5 (by decide) k hk), hl⟩, ⟨hs.os.trans hk.os, hs.tape.trans hk.tape, hs.output.trans hk.output, Nat.le_trans hk.size hs.size, fun k h2 h3 => (hs.block k h2).trans (hk.block k h2 h3)⟩, o5⟩

theorem whole_fin {w w5 : World} {b : Nat} {s : Value} {h : Fr} {y : SV} {qs : List (Int × Int)} (x : SV) (o : Obj) (j5 : JB w5 b h (sv y) s 0) (p2 : FB w5 (w.heap.size + 1) Fr.zero (.slice none 0 0)) (r1 : R EP w5 (sv y) qs)
    (k5 : Ks (fun k => k = b ∨ s.ownBlock = some k) w w5) (hlt : b < w.heap.size) (X : World) (hX : X = ((sets (sets (w5.setCell ⟨b, 11, none⟩ (sv x)) b (jsets Fr.zero (.slice none 0 0) (.slice none 0 0) 0)) (w.heap.size + 1) (fsets h (sv y))).alloc o).drew.drew) :
    FB X (w.heap.size + 1) h (sv y) ∧ Jn X b (.slice none 0 0) .idle ∧ R EP X (sv y) qs ∧ Ks (fun k => k = b ∨ s.ownBlock = some k) w X := by
  have a1 := JB.sets (j5.set11 (sv x)) Fr.zero (.slice none 0 0) (.slice none 0 0) 0
  have p2' : FB (sets (w5.setCell ⟨b, 11, none⟩ (sv x)) b (jsets Fr.zero (.slice none 0 0) (.slice none 0 0) 0)) (w.heap.size + 1) Fr.zero (.slice none 0 0) := (sets_other _ _ (by omega) _ _).trans ((setCell_other _ _ _ _ _ (by omega)).trans p2)
  have a2 := FB.sets p2' h (sv y)
  have a3 : JB (sets (sets (w5.setCell ⟨b, 11, none⟩ (sv x)) b (jsets Fr.zero (.slice none 0 0) (.slice none 0 0) 0)) (w.heap.size + 1) (fsets h (sv y))) b Fr.zero (.slice none 0 0) (.slice none 0 0) 0 := (sets_other _ _ (by omega) _ _).trans a1
  have ho : ∀ k, k ≠ w.heap.size + 1 → k ≠ b → (sets (sets (w5.setCell ⟨b, 11, none⟩ (sv x)) b (jsets Fr.zero (.slice none 0 0) (.slice none 0 0) 0)) (w.heap.size + 1) (fsets h (sv y))).heap[k]? = w5.heap[k]? := fun k h1 h2 => (sets_other _ _ h1 _ _).trans ((sets_other _ _ h2 _ _).trans (setCell_other _ _ _ _ _ h2))
  have r3 : R EP (sets (sets (w5.setCell ⟨b, 11, none⟩ (sv x)) b (jsets Fr.zero (.slice none 0 0) (.slice none 0 0) 0)) (w.heap.size + 1) (fsets h (sv y))) (sv y) qs := r1.stays fun k hk _ => ho k (own_ne r1 p2 (by decide) k hk) (own_ne r1 j5 (by decide) k hk)
  have hk := (k5.trans (Ks.setCell (fun k => k = b) w5 b 11 (sv x) rfl) (C := fun k => k = b ∨ s.ownBlock = some k) (fun _ _ h => h) (fun _ _ h => .inl h)).trans (sets_ks (fun k => k = b) b rfl (jsets Fr.zero (.slice none 0 0) (.slice none 0 0) 0) _) (C := fun k => k = b ∨ s.ownBlock = some k) (fun _ _ h => h) (fun _ _ h => .inl h)
  have hs := sets_below (w.heap.size + 1) w.heap.size (by omega) (fsets h (sv y)) (sets (w5.setCell ⟨b, 11, none⟩ (sv x)) b (jsets Fr.zero (.slice none 0 0) (.slice none 0 0) 0))
  generalize (sets (sets (w5.setCell ⟨b, 11, none⟩ (sv x)) b (jsets Fr.zero (.slice none 0 0) (.slice none 0 0) 0)) (w.heap.size + 1) (fsets h (sv y))) = Y at *
  generalize (sets (w5.setCell ⟨b, 11, none⟩ (sv x)) b (jsets Fr.zero (.slice none 0 0) (.slice none 0 0) 0)) = Z at *
  have hB : Below Y.heap.size Y X := by rw [hX]; exact (bel1 Y o).drew.drew
  have hYw : w.heap.size ≤ Y.heap.size := Nat.le_trans hk.size hs.size
  exact ⟨a2.below hB, ⟨a3.below hB, rfl⟩, r3.below hB, ⟨hB.os.trans (hs.os.trans hk.os), hB.tape.trans (hs.tape.trans hk.tape), hB.output.trans (hs.output.trans hk.output), Nat.le_trans hYw hB.size, fun k h2 h3 => (hB.block k (by omega)).trans ((hs.block k h2).trans (hk.block k h2 h3))⟩⟩

set_option maxHeartbeats 4000000 in
set_option maxRecDepth 100000 in
theorem add_any (w : World) (b : Nat) (s : Value) (st : Js) (f : Fr) (x : SV) (ps : List (Int × Int)) (hj : Jn w b s st) (hI : In EP w (sv x) ps) (hlen : ps.length * 16 ≤ 140737488355328) (h : Fr) (qs : List (Int × Int)) (l : List UInt8) (hm : Mid st f ps h qs l)
    (hl : l.length + f.data.size ≤ 131072) (F : Bool) (hf : (bits .and .i64 f.fl 4 == 0) = F) :
    Calls Try.prog 24 #[.pointer (some ⟨b, 0, none⟩), .agg (fv f (sv x))] w fun e w' => if F = true then addMore f h qs l w b s e w' else addWhole f h qs l w b s e w' := by
  obtain ⟨W1, hW1⟩ : ∃ W1, W1 = (w.alloc (.cells (fv f (sv x)) 24)).alloc (.cells (fv Fr.zero (.slice none 0 0)) 24) := ⟨_, rfl⟩
  have hb1 : Below w.heap.size w W1 := by rw [hW1]; exact bel2 w _ _
  have hs1 : W1.heap.size = w.heap.size + 1 + 1 := by rw [hW1, size_al, size_al]
  obtain ⟨b1, b2⟩ : FB W1 w.heap.size f (sv x) ∧ FB W1 (w.heap.size + 1) Fr.zero (.slice none 0 0) := by rw [hW1]; exact FB.al2 w _ _ _ _
  have hlt := hj.lt
  have hC : Hid (Calls Try.prog 14 #[.pointer (some ⟨b, 0, none⟩)] W1 fun e w2 => e = .returned (.bool (busyB st)) ∧ Hid (Below w.heap.size w w2 ∧ FB w2 w.heap.size f (sv x) ∧ FB w2 (w.heap.size + 1) Fr.zero (.slice none 0 0) ∧ w.heap.size + 1 + 1 ≤ w2.heap.size) ∧
      FB w2 w.heap.size f (sv x)) := by
    refine (busy_any W1 b s st (hj.below hb1)).mono ?_
    rintro e w2 ⟨rfl, hb⟩
    have hB : Below w.heap.size w w2 := hb1.trans (hb.mono (by omega))
    exact ⟨rfl, ⟨hB, b1.below hb, b2.below hb, by have := hb.size; omega⟩, b1.below hb⟩
  have hCP : Hid (∀ w2 : World, Below w.heap.size w w2 → FB w2 w.heap.size f (sv x) → FB w2 (w.heap.size + 1) Fr.zero (.slice none 0 0) → w.heap.size + 1 + 1 ≤ w2.heap.size → Calls Try.prog 27 #[.agg (fv f (sv x))] w2 fun e w3 => ∃ yb yl yc, e = .returned (.agg (fv f (.slice yb yl yc))) ∧
      Hid (R EP w3 (.slice yb yl yc) ps ∧ FB w3 w.heap.size f (sv x) ∧ FB w3 (w.heap.size + 1) Fr.zero (.slice none 0 0) ∧ Below w.heap.size w w3)) := by
    intro w2 hB hb1' hb2' hsz
    refine (copyOf_any f x ps w2 (hI.below hB) hlen).mono ?_
    rintro e w3 ⟨⟨yb, yl, yc⟩, rfl, h1, h2, h3⟩
    exact ⟨yb, yl, yc, rfl, h1, hb1'.below h3, hb2'.below h3, hB.trans (h3.mono hB.size)⟩
  have HJ : Hid (Jn w b s st) := hj
  have HM : Hid (Mid st f ps h qs l) := hm
  clear b1 b2 hb1 hs1 hI hj hm
  rw [fv_zero] at hW1
  have hW1' := hW1
  unfold fv at hW1'
  rw [hW1'] at hC
  clear hW1' hW1 W1
  obtain ⟨xb, xl, xc⟩ := x
  simp only [sv] at hC hCP ⊢
  unfold fv at hCP ⊢
  go_enter Try.func24, Try.ntmps24
  go_upto_if 11 with (go_at_call 14; refine hC.out.mono ?_; rintro e w2 ⟨rfl, h2, h2'⟩; obtain ⟨z0, z1, z2, z3, z4, z5, z6, z7, z8, z9, z10⟩ := h2'.cells; replace h2' := True.intro)
  go_cut [] from 9 (fun wc => ∃ yb yl yc, Ad w wc b s f (.slice xb xl xc) h (yb, yl, yc) qs l)
  case first =>
    rcases HM.out with ⟨rfl, hh, rfl, rfl, rfl⟩ | rfl
    · obtain ⟨hJ, rfl⟩ := HJ.out
      have HJ2 : Hid _ := hJ
      simp only [busyB]
      go_wp2_with (go_at_call 27; refine (hCP.out w2 h2.out.1 h2.out.2.1 h2.out.2.2.1 h2.out.2.2.2).mono ?_; rintro e w3 ⟨yb, yl, yc, rfl, h3⟩; have hj3 : JB w3 b Fr.zero (.slice none 0 0) (.slice none 0 0) 0 := (h3.out.2.2.2.block b hlt).trans HJ2.out; obtain ⟨c0, c1, c2, c3, c4, c5, c6, c7, c8, c9, c10, c11, c12, c13⟩ := hj3.cells; obtain ⟨f0, f1, f2, f3, f4, f5, f6, f7, f8, f9, f10, f11, f12, f13⟩ := hj3.frozens; replace hj3 : Hid _ := hj3; simp only [Fr.zero] at c0 c1 c2 c3 c4 c5 c6 c7 c8 c9 c10 c11 c12 c13)
      go_meet
      case rel =>
        have hfin := Ad.idle (q := .slice xb xl xc) (y := (yb, yl, yc)) hj3.out hh h3.out.1 h3.out.2.1 h3.out.2.2.1 h3.out.2.2.2 hlt
        simp only [sets, fsets, sv, List.foldl_cons, List.foldl_nil] at hfin
        exact ⟨yb, yl, yc, hfin⟩
    · simp only [busyB]
      go_wp2_with fail
      go_meet
      case rel =>
        obtain ⟨⟨yb, yl, yc⟩, q1, q2, q3, q4, q5, q6⟩ := HJ.out
        have hB := h2.out.1
        exact ⟨yb, yl, yc, (hB.block b hlt).trans q1, q2, q3, q4.stays fun k hk hk' => hB.block k hk', q5.stays fun k hk hk' => hB.block k hk', h2.out.2.1, h2.out.2.2.1, Ks.of_below hB, hlt, fun k hk => q5.lt k hk⟩
  case rest =>
    obtain ⟨yb, yl, yc, hA⟩ := hcut
    obtain ⟨⟨tb, tl, tc⟩, w5, hrun, j5, p1, p2, r1, r2, k5, o5⟩ := hA.app f.data hl
    simp only [sv] at hrun r1 r2 o5
    obtain ⟨c0, c1, c2, c3, c4, c5, c6, c7, c8, c9, c10, c11, c12, c13⟩ := hA.j.cells
    obtain ⟨z0, z1, z2, z3, z4, z5, z6, z7, z8, z9, z10⟩ := hA.b1.cells
    obtain ⟨d0, d1, d2, d3, d4, d5, d6, d7, d8, d9, d10, d11, d12, d13⟩ := j5.cells
    obtain ⟨e0, e1, e2, e3, e4, e5, e6, e7, e8, e9, e10, e11, e12, e13⟩ := j5.frozens
    obtain ⟨x0, x1, x2, x3, x4, x5, x6, x7, x8, x9, x10⟩ := p1.cells
    obtain ⟨u0, u1, u2, u3, u4, u5, u6, u7, u8, u9, u10⟩ := p2.cells
    obtain ⟨v0, v1, v2, v3, v4, v5, v6, v7, v8, v9, v10⟩ := p2.frozens
    have l1 : b < w5.heap.size := j5.lt
    have l2 : w.heap.size < w5.heap.size := p1.lt
    have l3 : w.heap.size + 1 < w5.heap.size := p2.lt
    replace hrun : Hid _ := hrun
    replace hA : Hid _ := hA
    replace j5 : Hid _ := j5
    replace p2 : Hid _ := p2
    replace r1 : Hid (R EP w5 (.slice yb yl yc) qs) := r1
    replace r2 : Hid (R EB w5 (.slice tb tl tc) (l ++ f.data.data.toList)) := r2
    simp only [sv] at c10 d10
    replace k5 : Hid _ := k5
    replace o5 : Hid _ := o5
    simp only [Fr.zero] at u0 u1 u2 u3 u4 u5 u6 u7 u8 u9 u10
    clear p1 hCP hC h2 HJ HM
    go_upto_region 5 with fail
    go_cut [] from 9 (fun wx => wx = w5.setCell ⟨b, 11, none⟩ (.slice tb tl tc))
    case first =>
      go_region_law (refine step_append_run rfl (.tmp 34) (.tmp 36) 30 9 rfl hrun.out (by simp [Act.eval]) (by simp [Act.eval]) ?_)
      all_goals
        go_wp2_with fail
        go_meet
        case rel => rfl
    case rest =>
      subst hcut
      cases F
      · have hcv : Hid (∀ W : World, W.heap.size ≥ w5.heap.size → (∀ k, k < w5.heap.size → W.heap[k]? = (w5.setCell ⟨b, 11, none⟩ (.slice tb tl tc)).heap[k]?) → Sem.run Try.prog (convert 30 9 (.slice tb tl tc)) W = .ok (.string (bt (l ++ f.data.data.toList))) W) := fun W _ hW => by
          refine conv_row (R.stays r2.out fun k hk hlt => (hW k hlt).trans (setCell_other _ _ _ _ _ fun e => own_ne r2.out j5.out (by decide) k hk e)) ?_
          simp
          omega
        have hcv1 := hcv.out (w5.setCell ⟨b, 11, none⟩ (.slice tb tl tc)).drew (by simp [size_dr]) (fun k _ => rfl)
        have hcv2 : ∀ o, Sem.run Try.prog (convert 30 9 (.slice tb tl tc)) ((w5.setCell ⟨b, 11, none⟩ (.slice tb tl tc)).alloc o).drew = .ok (.string (bt (l ++ f.data.data.toList))) ((w5.setCell ⟨b, 11, none⟩ (.slice tb tl tc)).alloc o).drew := fun o => hcv.out _ (by simp [size_dr]) (fun k hk => (heap_al _ _ _).trans (if_neg (by simp; omega)))
        have hfin : Hid _ := whole_fin (tb, tl, tc) (.cells (fv h (.slice yb yl yc)) 24) (y := (yb, yl, yc)) j5.out p2.out r1.out k5.out hlt _ rfl
        go_upto_region 8 with fail
        go_cut [7, 8] from 9 (fun a c wx => a = .pointer (some ⟨w5.heap.size, 0, none⟩) ∧ c = .string (bt (l ++ f.data.data.toList)) ∧ wx = ((w5.setCell ⟨b, 11, none⟩ (.slice tb tl tc)).alloc (.cells (fv h (.slice yb yl yc)) 24)).drew)
        case first =>
          go_region
          all_goals
            go_wp2_with fail
            go_meet
            case rel => exact ⟨rfl, rfl, rfl⟩
        case rest =>
          obtain ⟨rfl, rfl, rfl⟩ := hcut
          unfold fv
          clear hcv1 hcv2
          replace hcv : Hid True := True.intro
          go_upto_region 10 with fail
          go_region
          all_goals
            go_wp2_with fail
            obtain ⟨q1, q2, q3, q4⟩ := hfin.out
            simp only [sets, jsets, fsets, sv, fv, Fr.zero, List.cons_append, List.nil_append, List.foldl_cons, List.foldl_nil] at q1 q2 q3 q4
            refine bodyPost_ret (results_tct (r := 4) (p := 5) (ty := 24) (q := 6) rfl _ _ (w.heap.size + 1) 24 _ (0, 0) _ rfl q1 Try.underlying24 rfl (by kernel_rfl)) rfl ⟨(yb, yl, yc), rfl, q2, q3, q4⟩
      · go_wp2_with fail
        obtain ⟨q1, q2, q3, q4⟩ := more_fin (tb, tl, tc) j5.out hA.out.ih hA.out.hd p2.out r1.out r2.out k5.out hlt (by simp; omega) o5.out
        simp only [sets, fsets, sv, Fr.zero, List.foldl_cons, List.foldl_nil] at q1 q2 q3 q4
        refine bodyPost_ret (results_tct (r := 4) (p := 5) (ty := 24) (q := 6) rfl _ _ (w.heap.size + 1) 24 _ (0, 0) _ rfl q1 Try.underlying24 rfl (by kernel_rfl)) rfl ⟨rfl, _, q2, q3, q4⟩
end Go.Proofs.Ytdgdjanchpfleaa
