import Derived.Test.YtfponcdhaefkdaaDoorG5
import Derived.Deep.RegionHeld3
import Derived.Deep.Cut
/- Holds and Claim, of the cache and the book. -/
namespace Go.Proofs.YtfponcdhaefkdaaDoor
open Go.RowKit
set_option linter.unusedVariables false
set_option linter.unusedSimpArgs false
/-- the two, and a step of the script in its box -/
structure Cl (w0 W : World) (b g : Nat) (c : Ca) (y : SV) (L : List En) (z : SV) (B : List Kn) (now : Int) (o0 : Nat) (o : Os) : Prop where
  ci : Ci w0 W b g c y L z B now
  bx : Bx' W o0 (opv o) 60
theorem Cl.below {w0 W W' : World} {b g : Nat} {c : Ca} {y : SV} {L : List En} {z : SV} {B : List Kn} {now : Int} {o0 : Nat} {o : Os} (h : Cl w0 W b g c y L z B now o0 o) (hb : Below W.heap.size W W') : Cl w0 W' b g c y L z B now o0 o := ⟨h.ci.below hb, h.bx.below hb⟩
theorem Cl.setNow {w0 W : World} {b g : Nat} {c : Ca} {y : SV} {L : List En} {z : SV} {B : List Kn} {now : Int} {o0 : Nat} {o : Os} (h : Cl w0 W b g c y L z B now o0 o) (n : Int) : Cl w0 (W.setCell ⟨b, 6, none⟩ (.int .i64 n)) b g c y L z B n o0 o := ⟨h.ci.setNow n, h.bx.bop h.ci.bk _ _⟩
theorem Cl.cop {w0 W W' : World} {b g : Nat} {c c' : Ca} {y y' : SV} {L L' : List En} {z : SV} {B : List Kn} {now : Int} {o0 : Nat} {o : Os} (h : Cl w0 W b g c y L z B now o0 o) (hk : Ks (Ow g y) W W') (hx : Cx W' g c' y' L') (h1 : c'.me = c.me ∧ c'.mb = c.mb ∧ c'.lf = c.lf) (ho : ∀ k, Ow g y' k → Ow g y k ∨ W.heap.size ≤ k) (hr : Rl L' B) : Cl w0 W' b g c' y' L' z B now o0 o := ⟨h.ci.cop hk hx h1 ho hr, h.bx.cop h.ci.cx hk⟩
theorem ite_take {c : Prop} [Decidable c] {A B : Prop} (h : c) (a : A) : if c then A else B := by rw [if_pos h]; exact a
/-- where the first stands -/
structure Fi' (B : List Kn) (p : Kn → Bool) (i : Nat) (k : Option Nat) : Prop where
  no : k = none → i ≤ B.length ∧ ∀ j (hj : j < B.length), j < i → p B[j] = false
  yes : ∀ m, k = some m → i ≤ B.length ∧ ∃ hm : m < B.length, p B[m] = true ∧ ∀ j (hj : j < B.length), j < m → p B[j] = false
theorem Fi'.find {B : List Kn} {p : Kn → Bool} {i : Nat} {k : Option Nat} (h : Fi' B p i k) (hi : k = none → B.length ≤ i) : B.findIdx? p = k := by
  cases k with
  | none =>
    have := h.no rfl
    have h2 := hi rfl
    exact List.findIdx?_eq_none_iff.2 fun x hx => by
      obtain ⟨j, hj, rfl⟩ := List.getElem_of_mem hx
      exact this.2 j hj (by omega)
  | some m =>
    obtain ⟨_, hm, h1, h2⟩ := h.yes m rfl
    exact List.findIdx?_eq_some_iff_getElem.2 ⟨hm, h1, fun j hj => by rw [h2 j (by omega) hj]; simp⟩
theorem Fi'.no1 {B : List Kn} {p : Kn → Bool} {i : Nat} (h : Fi' B p i none) (hi : i < B.length) (hp : p B[i] = false) : Fi' B p (i + 1) none :=
  ⟨fun _ => ⟨by omega, fun j hj hji => by
    by_cases e : j = i
    · subst e; exact hp
    · exact (h.no rfl).2 j hj (by omega)⟩, fun m hm => by cases hm⟩
theorem Fi'.yes1 {B : List Kn} {p : Kn → Bool} {i : Nat} (h : Fi' B p i none) (hi : i < B.length) (hp : p B[i] = true) : Fi' B p (i + 1) (some i) :=
  ⟨fun e => (by cases e), fun m hm => by
    injection hm with hm
    subst hm
    exact ⟨by omega, hi, hp, (h.no rfl).2⟩⟩
/-- the same, but for what relates them -/
structure Cj (w0 W : World) (b g : Nat) (c : Ca) (y : SV) (L : List En) (z : SV) (B : List Kn) (now : Int) (o0 : Nat) (o : Os) : Prop where
  cx : Cx W g c y L
  bk : Bk W b g c.me c.mb c.lf z B now
  bel : Below w0.heap.size w0 W
  nb : w0.heap.size ≤ b
  nc : ∀ k, Ow g y k → w0.heap.size ≤ k
  nz : ∀ k, (sv z).ownBlock = some k → w0.heap.size ≤ k
  bx : Bx' W o0 (opv o) 60
theorem Cj.below {w0 W W' : World} {b g : Nat} {c : Ca} {y : SV} {L : List En} {z : SV} {B : List Kn} {now : Int} {o0 : Nat} {o : Os} (h : Cj w0 W b g c y L z B now o0 o) (hb : Below W.heap.size W W') : Cj w0 W' b g c y L z B now o0 o := ⟨h.cx.below hb, h.bk.below hb, h.bel.trans (hb.mono h.bel.size), h.nb, h.nc, h.nz, h.bx.below hb⟩
theorem Cj.ci {w0 W : World} {b g : Nat} {c : Ca} {y : SV} {L : List En} {z : SV} {B : List Kn} {now : Int} {o0 : Nat} {o : Os} (h : Cj w0 W b g c y L z B now o0 o) (hr : Rl L B) : Ci w0 W b g c y L z B now := ⟨h.cx, h.bk, hr, h.bel, h.nb, h.nc, h.nz⟩
theorem Cl.cm {w0 W : World} {b g : Nat} {c : Ca} {y : SV} {L : List En} {z : SV} {B : List Kn} {now : Int} {o0 : Nat} {o : Os} (h : Cl w0 W b g c y L z B now o0 o) : Cj w0 W b g c y L z B now o0 o := ⟨h.ci.cx, h.ci.bk, h.ci.bel, h.ci.nb, h.ci.nc, h.ci.nz, h.bx⟩
/-- a box of its own is written -/
theorem Cj.box {w0 W : World} {b g : Nat} {c : Ca} {y : SV} {L : List En} {z : SV} {B : List Kn} {now : Int} {o0 : Nat} {o : Os} (h : Cj w0 W b g c y L z B now o0 o) {r0 : Nat} {cc : Array Value} {t : TypeId} {fz : Nat × Nat} (hb : W.heap[r0]? = some (.cells cc t fz)) (h1 : t ≠ 83 ∧ t ≠ 87 ∧ t ≠ 51 ∧ t ≠ 9 ∧ t ≠ 58 ∧ t ≠ 95 ∧ t ≠ 60) (h2 : w0.heap.size ≤ r0) (i : Nat) (v : Value) : Cj w0 (W.setCell ⟨r0, i, none⟩ v) b g c y L z B now o0 o :=
  ⟨h.cx.keep fun k hc _ => setCell_other _ _ _ _ _ fun e => h.cx.offk hb h1.1 h1.2.1 h1.2.2.1 h1.2.2.2.1 (e ▸ hc), h.bk.keep fun k c' t' fz' hk ht => setCell_other _ _ _ _ _ (ty_ne hk hb (fun e => by
    subst e
    rcases ht with ht | ht | ht
    · exact h1.2.2.2.2.1 ht
    · exact h1.2.2.2.2.2.1 ht
    · exact h1.2.2.1 ht)), h.bel.setCell (p := ⟨r0, i, none⟩) h2 v, h.nb, h.nc, h.nz, ⟨(setCell_other _ _ _ _ _ (ty_ne h.bx.blk hb (fun e => h1.2.2.2.2.2.2 e.symm))).trans h.bx.blk, h.bx.ty⟩⟩
theorem Cj.setL {w0 W V : World} {b g : Nat} {c : Ca} {y : SV} {L : List En} {z z' : SV} {B B' : List Kn} {now : Int} {o0 : Nat} {o : Os} (h : Cj w0 W b g c y L z B now o0 o) (hb : Below W.heap.size W V) (hR : R EK V (sv z') B') (hn : ∀ k, (sv z').ownBlock = some k → W.heap.size ≤ k) (hs : ∀ k ∈ B', k ∈ B) (hr : Rl L B') : Ci w0 (V.setCell ⟨b, 5, none⟩ (sv z')) b g c y L z' B' now := by
  have hV := h.below hb
  have hoff : ¬ Cb g y L b := hV.cx.offk hV.bk.blk (by decide) (by decide) (by decide) (by decide)
  exact ⟨hV.cx.keep fun k hc _ => setCell_other _ _ _ _ _ fun e => hoff (e ▸ hc), hV.bk.setL rfl hR fun k hk => hV.bk.fl k (hs k hk), hr, hV.bel.setCell (p := ⟨b, 5, none⟩) hV.nb _, hV.nb, hV.nc, fun k hk => Nat.le_trans h.bel.size (hn k hk)⟩
theorem hr_hr (c : Ca) (t : Int) : hr (hr c t) t = hr c t := by
  unfold hr
  simp only
  congr 1
  omega
/-- Holds, of the two -/
theorem Cl.holds {w0 V : World} {b g : Nat} {c : Ca} {y : SV} {L : List En} {z : SV} {B : List Kn} {now : Int} {o0 : Nat} {o : Os} (h : Cl w0 V b g c y L z B now o0 o) (ho : Oi w0 o) (ko : Option Nat) (hko : B.findIdx? (anK (hr c o.tk).ck c.lf o.q o.Q) = ko) :
    Calls Tryd.prog 14 #[.pointer (some ⟨g, 0, none⟩), .agg (rqv o.q), .int .i64 o.tk] V fun r w' => r = .returned (.bool ko.isSome) ∧ Cl w0 w' b g (hr c o.tk) y L z B now o0 o := by
  have hin : ∀ V', Ks (fun k => k = g) V V' → In EFd V' (sv o.q.y) o.Q := fun V' hV' => ho.iq.below (h.ci.bel.trans (hV'.below h.ci.bel.size fun i hi e => by have := h.ci.nc i (.inl e); omega))
  refine (holds_any V g c y L h.ci.cx o.q o.Q (ho.iq.below h.ci.bel) ho.az.zQ hin o.tk ho.tk).mono ?_
  rintro r w' ⟨rfl, hx, hk⟩
  refine ⟨?_, h.cop (ks_g hk) hx ⟨rfl, rfl, rfl⟩ (fun k hk => .inl hk) h.ci.rl⟩
  have e : L.findIdx? (anB (hr c o.tk) o.q o.Q) = ko := (h.ci.rl.find (hr c o.tk) o.q o.Q).trans hko
  rw [plI_oI, e]
  cases ko with
  | none => rfl
  | some k => simp [oI]
/-- what Claim tells, and leaves -/
def cmP (w0 V w' : World) (b g : Nat) (c : Ca) (y : SV) (L : List En) (z : SV) (B : List Kn) (now : Int) (o0 : Nat) (o : Os) (r : Ending) : Option Nat → Prop
  | none => r = .returned (.tuple #[.agg #[.int .i64 0, .slice none 0 0, .string ⟨#[]⟩], .int .i64 0, .bool false]) ∧ Cj w0 w' b g c y L z B now o0 o ∧ Rl L B ∧ Ks (Ow g y) V w'
  | some i => ∃ hi : i < B.length, ∃ v y' : SV, r = .returned (.tuple #[.agg (rsv B[i].rn (sv v) B[i].rb), .int .i64 B[i].st, .bool true]) ∧ R EFd w' (sv v) B[i].fr ∧ Cj w0 w' b g c y' (L.eraseIdx i) z B now o0 o ∧ Rl (L.eraseIdx i) (B.eraseIdx i) ∧ Ks (Ow g y) V w'
theorem Cl.claim {w0 V : World} {b g : Nat} {c : Ca} {y : SV} {L : List En} {z : SV} {B : List Kn} {now : Int} {o0 : Nat} {o : Os} (h : Cl w0 V b g (hr c o.tk) y L z B now o0 o) (ho : Oi w0 o) (ko : Option Nat) (hko : B.findIdx? (anK (hr c o.tk).ck c.lf o.q o.Q) = ko) :
    Calls Tryd.prog 13 #[.pointer (some ⟨g, 0, none⟩), .agg (rqv o.q), .int .i64 o.tk] V fun r w' => cmP w0 V w' b g (hr c o.tk) y L z B now o0 o r ko := by
  have hin : ∀ V', Ks (fun k => k = g) V V' → In EFd V' (sv o.q.y) o.Q := fun V' hV' => ho.iq.below (h.ci.bel.trans (hV'.below h.ci.bel.size fun i hi e => by have := h.ci.nc i (.inl e); omega))
  refine (claim_any V g (hr c o.tk) y L h.ci.cx o.q o.Q ho.az.zQ hin o.tk ho.tk).mono ?_
  rw [hr_hr]
  have e : L.findIdx? (anB (hr c o.tk) o.q o.Q) = ko := (h.ci.rl.find (hr c o.tk) o.q o.Q).trans hko
  rw [e]
  have hbel : ∀ w', Ks (Ow g y) V w' → Below w0.heap.size w0 w' := fun w' hk => h.ci.bel.trans (hk.below h.ci.bel.size fun i hi ho => by have := h.ci.nc i ho; omega)
  rintro r w' (⟨rfl, rfl, hx, hk⟩ | ⟨i, hi, rfl, rfl, z', hx, hz, hk, hE⟩)
  · exact ⟨rfl, ⟨hx, h.ci.bk.cop h.ci.cx hk, hbel w' hk, h.ci.nb, h.ci.nc, h.ci.nz, h.bx.cop h.ci.cx hk⟩, h.ci.rl, hk⟩
  · have hiB : i < B.length := by have := h.ci.rl.len; omega
    have hre := (h.ci.rl.re i hi hiB).ee
    refine ⟨hiB, L[i].ry, z', by rw [hre.rn, hre.rb, hre.st], by have := hE.r; rw [hre.rf] at this; exact this, ⟨hx, h.ci.bk.cop h.ci.cx hk, hbel w' hk, h.ci.nb, fun k hk' => h.ci.nc k (by rw [← ow_eq hz]; exact hk'), h.ci.nz, h.bx.cop h.ci.cx hk⟩, h.ci.rl.erase i, hk⟩
end Go.Proofs.YtfponcdhaefkdaaDoor
/- Store, of the cache and the book: plain facts. -/
namespace Go.Proofs.YtfponcdhaefkdaaDoor
open Go.RowKit
set_option linter.unusedVariables false
set_option linter.unusedSimpArgs false
/-- the size of the last that went, if it was not late -/
def lstN (c : Ca) (B : List Kn) (n : Nat) : Nat := if h : 0 < n ∧ n - 1 < B.length then (if c.lf < c.ck - (B[n - 1]'h.2).ar then 0 else ksz (B[n - 1]'h.2)) else 0
/-- what a Store lets go -/
structure Sp (c : Ca) (L : List En) (B : List Kn) (ok : Bool) (n : Nat) (D : List Int) (z : Nat) : Prop where
  nl : n ≤ B.length
  Ds : D = (B.take n).map (·.st)
  late : ∀ k ∈ B.take n, ok = true ∨ c.lf < c.ck - k.ar
  rest : ∀ k ∈ B.drop n, ¬ c.lf < c.ck - k.ar
  room : 0 < lstN c B n → ¬ (((B.length - n : Nat) : Int) + 2 ≤ c.me ∧ ((totK (B.drop n) + lstN c B n + z : Nat) : Int) ≤ c.mb)
theorem Rl.map_st {L : List En} {B : List Kn} (h : Rl L B) (n : Nat) : (L.take n).map (·.st) = (B.take n).map (·.st) := by
  induction L generalizing B n with
  | nil => cases B with
    | nil => simp
    | cons k B => have := h.len; simp at this
  | cons e L ih => cases B with
    | nil => have := h.len; simp at this
    | cons k B =>
      cases n with
      | zero => rfl
      | succ n =>
        rw [List.take_succ_cons, List.take_succ_cons, List.map_cons, List.map_cons, ih h.tail.2, h.tail.1.ee.st]
theorem take_len {α : Type} (p : α → Bool) (L : List α) : L.take (L.takeWhile p).length = L.takeWhile p ∧ L.drop (L.takeWhile p).length = L.dropWhile p := by
  induction L with
  | nil => exact ⟨rfl, rfl⟩
  | cons x L ih =>
    by_cases hx : p x = true
    · rw [List.takeWhile_cons_of_pos hx, List.dropWhile_cons_of_pos hx, List.length_cons, List.take_succ_cons, List.drop_succ_cons, ih.1, ih.2]
      exact ⟨rfl, rfl⟩
    · rw [List.takeWhile_cons_of_neg hx, List.dropWhile_cons_of_neg hx]
      exact ⟨rfl, rfl⟩
theorem late_all {c : Ca} {L : List En} : ∀ e ∈ L.takeWhile (exB c), exB c e = true := fun e he => List.all_eq_true.1 (List.all_takeWhile (p := exB c) (l := L)) e he
/-- those that stay are young -/
theorem young_all {c : Ca} {L : List En} (hu : L.Pairwise fun a b => a.ar ≤ b.ar) : ∀ e ∈ L.dropWhile (exB c), exB c e = false := by
  induction L with
  | nil => intro e he; simp at he
  | cons x L ih =>
    intro e he
    by_cases hx : exB c x = true
    · rw [List.dropWhile_cons_of_pos hx] at he
      exact ih (List.pairwise_cons.1 hu).2 e he
    · rw [List.dropWhile_cons_of_neg hx] at he
      have hx' : exB c x = false := by simpa using hx
      rcases List.mem_cons.1 he with rfl | he
      · exact hx'
      · have := (List.pairwise_cons.1 hu).1 e he
        unfold exB at hx' ⊢
        rw [decide_eq_false_iff_not] at hx' ⊢
        omega
theorem Rl.late {L : List En} {B : List Kn} (h : Rl L B) (c : Ca) (i : Nat) (h1 : i < L.length) (h2 : i < B.length) : exB c L[i] = decide (c.lf < c.ck - B[i].ar) := by
  unfold exB
  rw [(h.re i h1 h2).ee.ar]
theorem ev_last (c : Ca) (z : Nat) (M : List En) (h : 0 < (evD c z M).length) : ∃ x, M[(evD c z M).length - 1]? = some x ∧ lkB c (x :: evL c z M) z = true := by
  induction M with
  | nil => simp [evD] at h
  | cons x M ih =>
    by_cases hl : lkB c (x :: M) z = true
    · have e1 : evD c z (x :: M) = x :: evD c z M := by rw [evD, if_pos hl]
      have e2 : evL c z (x :: M) = evL c z M := by rw [evL, if_pos hl]
      rw [e1, e2]
      by_cases h0 : 0 < (evD c z M).length
      · obtain ⟨y, h1, h2⟩ := ih h0
        refine ⟨y, ?_, h2⟩
        rw [List.length_cons, Nat.add_sub_cancel]
        obtain ⟨m, hm⟩ : ∃ m, (evD c z M).length = m + 1 := ⟨(evD c z M).length - 1, by omega⟩
        rw [hm, List.getElem?_cons_succ]
        rw [hm, Nat.add_sub_cancel] at h1
        exact h1
      · have e3 : evD c z M = [] := List.eq_nil_of_length_eq_zero (by omega)
        have e4 : evL c z M = M := by have := ev_app c z M; rw [e3] at this; exact this
        refine ⟨x, ?_, ?_⟩
        · rw [e3]; rfl
        · rw [e4]; exact hl
    · have e1 : evD c z (x :: M) = [] := by rw [evD, if_neg hl]
      rw [e1] at h
      simp at h
/-- refused: those that are late go -/
theorem Sp.no {c : Ca} {L : List En} {B : List Kn} (h : Rl L B) (hu : L.Pairwise fun a b => a.ar ≤ b.ar) (z : Nat) : Sp c L B false (L.takeWhile (exB c)).length ((L.takeWhile (exB c)).map (·.st)) z ∧ L.dropWhile (exB c) = L.drop (L.takeWhile (exB c)).length := by
  obtain ⟨t1, t2⟩ := take_len (exB c) L
  have hn : (L.takeWhile (exB c)).length ≤ L.length := (List.takeWhile_sublist _).length_le
  have hl := h.len
  have late : ∀ k ∈ B.take (L.takeWhile (exB c)).length, c.lf < c.ck - k.ar := fun k hk => by
    obtain ⟨i, hi, rfl⟩ := List.getElem_of_mem hk
    rw [List.length_take] at hi
    rw [List.getElem_take]
    have h1 : L[i]'(by omega) ∈ L.takeWhile (exB c) := by
      have : (L.takeWhile (exB c))[i]'(by omega) = L[i]'(by omega) := by
        have := congrArg (fun l => l[i]?) t1
        simp only [List.getElem?_take] at this
        rw [if_pos (by omega), List.getElem?_eq_getElem (by omega), List.getElem?_eq_getElem (by omega)] at this
        exact (Option.some.inj this).symm
      rw [← this]
      exact List.getElem_mem _
    have := late_all _ h1
    rw [h.late c i (by omega) (by omega)] at this
    exact of_decide_eq_true this
  refine ⟨⟨by omega, by rw [← h.map_st, t1], fun k hk => .inr (late k hk), fun k hk => ?_, fun hp => ?_⟩, t2.symm⟩
  · obtain ⟨i, hi, rfl⟩ := List.getElem_of_mem hk
    rw [List.length_drop] at hi
    rw [List.getElem_drop]
    have h1 : L[(L.takeWhile (exB c)).length + i]'(by omega) ∈ L.dropWhile (exB c) := by
      rw [← t2]
      have : (L.drop (L.takeWhile (exB c)).length)[i]'(by rw [List.length_drop]; omega) = L[(L.takeWhile (exB c)).length + i]'(by omega) := List.getElem_drop
      rw [← this]
      exact List.getElem_mem _
    have := young_all hu _ h1
    rw [h.late c _ (by omega) (by omega)] at this
    exact of_decide_eq_false this
  · exfalso
    unfold lstN at hp
    split at hp
    · rename_i hh
      rw [if_pos (late _ (List.mem_take_iff_getElem.2 ⟨(L.takeWhile (exB c)).length - 1, by omega, rfl⟩))] at hp
      omega
    · omega
/-- kept: the late ones go, and those that there is no room for -/
theorem Sp.yes {c : Ca} {L : List En} {B : List Kn} (h : Rl L B) (hu : L.Pairwise fun a b => a.ar ≤ b.ar) (z : Nat) : ∃ n, Sp c L B true n ((L.takeWhile (exB c)).map (·.st) ++ (evD c z (L.dropWhile (exB c))).map (·.st)) z ∧ evL c z (L.dropWhile (exB c)) = L.drop n := by
  obtain ⟨⟨s1, s2, s3, s4, s5⟩, t2⟩ := Sp.no h hu (c := c) z
  obtain ⟨t1, _⟩ := take_len (exB c) L
  obtain ⟨M, hM⟩ : ∃ M, L.dropWhile (exB c) = M := ⟨_, rfl⟩
  obtain ⟨k, hk⟩ : ∃ k, (L.takeWhile (exB c)).length = k := ⟨_, rfl⟩
  rw [hM] at t2 ⊢
  rw [hk] at s1 s2 s3 s4 s5 t1 t2
  have ha := ev_app c z M
  have hl := h.len
  obtain ⟨d, hd⟩ : ∃ d, (evD c z M).length = d := ⟨_, rfl⟩
  have hML : M.length = L.length - k := by rw [t2, List.length_drop]
  have hdM : d ≤ M.length := by rw [← ha, List.length_append]; omega
  have e1 : evD c z M = M.take d := by
    have : (evD c z M ++ evL c z M).take d = M.take d := by rw [ha]
    rw [List.take_left' hd] at this
    exact this
  have e2 : evL c z M = M.drop d := by
    have : (evD c z M ++ evL c z M).drop d = M.drop d := by rw [ha]
    rw [List.drop_left' hd] at this
    exact this
  have e3 : M.drop d = L.drop (k + d) := by rw [t2, List.drop_drop]
  refine ⟨k + d, ⟨by omega, ?_, fun _ _ => .inl rfl, fun x hx => s4 x ?_, fun hp hr => ?_⟩, by rw [e2, e3]⟩
  · rw [e1, ← h.map_st, ← List.map_append, ← t1, t2, List.take_add]
  · rw [← List.drop_drop] at hx
    exact (List.drop_sublist _ _).subset hx
  · unfold lstN at hp hr
    split at hp
    · rename_i hh
      by_cases hlt : c.lf < c.ck - (B[k + d - 1]'hh.2).ar
      · rw [if_pos hlt] at hp; omega
      · by_cases hd0 : 0 < d
        · obtain ⟨x, hx, hlk⟩ := ev_last c z M (by rw [hd]; exact hd0)
          rw [dif_pos hh, if_neg hlt] at hr
          have hidx : L[k + d - 1]? = some x := by
            rw [hd, t2, List.getElem?_drop] at hx
            rw [show k + d - 1 = k + (d - 1) by omega]
            exact hx
          rw [List.getElem?_eq_getElem (by omega)] at hidx
          have hx2 := Option.some.inj hidx
          have hsz := (h.re (k + d - 1) (by omega) hh.2).ee.sz
          rw [hx2] at hsz
          have ht := (h.drop (k + d)).tot
          unfold lkB at hlk
          rw [e2, e3] at hlk
          simp only [Bool.or_eq_true, decide_eq_true_eq, List.length_cons, List.length_drop] at hlk
          have htx : totL (x :: L.drop (k + d)) = x.sz + totL (L.drop (k + d)) := by unfold totL; rw [List.map_cons, List.sum_cons]
          rw [htx, ht, hsz] at hlk
          unfold ksz at hr
          rcases hlk with hlk | hlk
          · omega
          · omega
        · exfalso
          have d0 : d = 0 := by omega
          subst d0
          rcases s3 (B[k + 0 - 1]'hh.2) (List.mem_take_iff_getElem.2 ⟨k - 1, by omega, by simp⟩) with e | e
          · cases e
          · exact hlt e
    · omega
theorem Sp.ls0 {c : Ca} {L : List En} {B : List Kn} {n : Nat} {D : List Int} {z : Nat} (h : Sp c L B false n D z) : lstN c B n = 0 := by
  unfold lstN
  split
  · rename_i hh
    rcases h.late (B[n - 1]'hh.2) (List.mem_take_iff_getElem.2 ⟨n - 1, by omega, rfl⟩) with e | e
    · cases e
    · rw [if_pos e]
  · rfl
end Go.Proofs.YtfponcdhaefkdaaDoor
/- Store, of the cache and the book. -/
namespace Go.Proofs.YtfponcdhaefkdaaDoor
open Go.RowKit
set_option linter.unusedVariables false
set_option linter.unusedSimpArgs false
/-- behind the Store -/
structure Cs (w0 W : World) (b g : Nat) (c : Ca) (y : SV) (L : List En) (z : SV) (B : List Kn) (now : Int) (o0 : Nat) (o : Os) (r0 : Nat) (rv gs : SV) (D : List Int) : Prop where
  m : Cj w0 W b g c y L z B now o0 o
  rb : W.heap[r0]? = some (.cells (rsv o.rn (sv rv) o.rb) 26 (0, 0))
  rr : R EFd W (sv rv) o.fr
  gn : R EI W (sv gs) D
variable {w0 W W' : World} {b g : Nat} {c c' : Ca} {y y' : SV} {L L' : List En} {z z' : SV} {B B' : List Kn} {now : Int} {o0 r0 : Nat} {o : Os} {rv gs : SV} {D : List Int}
theorem Cs.below (h : Cs w0 W b g c y L z B now o0 o r0 rv gs D) (hb : Below W.heap.size W W') : Cs w0 W' b g c y L z B now o0 o r0 rv gs D := ⟨h.m.below hb, (hb.block _ (heap_lt h.rb)).trans h.rb, h.rr.below hb, h.gn.below hb⟩
/-- behind what went -/
theorem Cs.went (h : Cs w0 W b g c y L z B now o0 o r0 rv gs D) (hw : Wn W W' b g c.me c.mb c.lf z z' B' now gs D) : Cs w0 W' b g c y L z' B' now o0 o r0 rv gs D := by
  have hoff : ¬ Cb g y L b := h.m.cx.offk h.m.bk.blk (by decide) (by decide) (by decide) (by decide)
  refine ⟨⟨h.m.cx.keep fun k hc hl => hw.ks.block k hl fun e => hoff (e ▸ hc), hw.bk, h.m.bel.trans (hw.ks.below h.m.bel.size fun i hi e => by have := h.m.nb; omega), h.m.nb, h.m.nc, fun k hk => (hw.own k hk).elim (h.m.nz k) fun e => Nat.le_trans h.m.bel.size e, ⟨(hw.ks.block _ (heap_lt h.m.bx.blk) (ty_ne h.m.bx.blk h.m.bk.blk (by decide))).trans h.m.bx.blk, h.m.bx.ty⟩⟩, (hw.ks.block _ (heap_lt h.rb) (ty_ne h.rb h.m.bk.blk (by decide))).trans h.rb, h.rr.stays fun k hk hl => ?_, hw.gone⟩
  obtain ⟨cc, hc⟩ := h.rr.ty k hk
  exact hw.ks.block k hl (ty_ne hc h.m.bk.blk (show (51 : TypeId) ≠ 58 by decide))
/-- a box of its own is written -/
theorem Cs.box (h : Cs w0 W b g c y L z B now o0 o r0 rv gs D) {q0 : Nat} {cc : Array Value} {t : TypeId} {fz : Nat × Nat} (hb : W.heap[q0]? = some (.cells cc t fz)) (h1 : t ≠ 83 ∧ t ≠ 87 ∧ t ≠ 51 ∧ t ≠ 9 ∧ t ≠ 58 ∧ t ≠ 95 ∧ t ≠ 60) (h2 : w0.heap.size ≤ q0) (h3 : t ≠ 26 ∧ t ≠ 2) (i : Nat) (v : Value) : Cs w0 (W.setCell ⟨q0, i, none⟩ v) b g c y L z B now o0 o r0 rv gs D := by
  refine ⟨h.m.box hb h1 h2 i v, (setCell_other _ _ _ _ _ (ty_ne h.rb hb (fun e => h3.1 e.symm))).trans h.rb, h.rr.stays fun k hk _ => ?_, h.gn.stays fun k hk _ => ?_⟩
  · obtain ⟨cd, hd⟩ := h.rr.ty k hk
    exact setCell_other _ _ _ _ _ (ty_ne hd hb (fun e => h1.2.2.1 e.symm))
  · obtain ⟨cd, hd⟩ := h.gn.ty k hk
    exact setCell_other _ _ _ _ _ (ty_ne hd hb (fun e => h3.2 e.symm))
/-- one more in the book -/
theorem Cs.push (h : Cs w0 W b g c y L z B now o0 o r0 rv gs D) (kn : Kn) (hq : R EFd W (sv kn.q.y) kn.fq) (hr : R EFd W (sv kn.ry) kn.fr) {W2 : World} {z2 : SV} (hR : R EK W2 (sv z2) (B ++ [kn])) (hG : Gr W W2 (sv z) (sv z2)) (hrl : Rl L (B ++ [kn])) : Ci w0 (W2.setCell ⟨b, 5, none⟩ (sv z2)) b g c y L z2 (B ++ [kn]) now := by
  have hoff : ¬ Cb g y L b := h.m.cx.offk h.m.bk.blk (by decide) (by decide) (by decide) (by decide)
  have hz95 : ∀ k, (sv z).ownBlock = some k → ∃ cc, W.heap[k]? = some (.cells cc 95 (0, 0)) := fun k hk => h.m.bk.row.ty k hk
  have hb2 : W2.heap[b]? = W.heap[b]? := hG.block b (heap_lt h.m.bk.blk) fun e => by
    obtain ⟨cc, hc⟩ := hz95 b e
    exact ty_ne hc h.m.bk.blk (show (95 : TypeId) ≠ 58 by decide) rfl
  have hF : ∀ (v : SV) (l : List Fd), R EFd W (sv v) l → R EFd W2 (sv v) l := fun v l hv => hv.stays fun k hk hl => hG.block k hl fun e => by
    obtain ⟨cc, hc⟩ := hz95 k e
    obtain ⟨cd, hd⟩ := hv.ty k hk
    exact ty_ne hc hd (show (95 : TypeId) ≠ 51 by decide) rfl
  have hx2 : Cx W2 g c y L := h.m.cx.keep fun k hc hl => hG.block k hl fun e => by
    obtain ⟨cc, hk⟩ := hz95 k e
    exact h.m.cx.offk hk (by decide) (by decide) (by decide) (by decide) hc
  have hbel : Below w0.heap.size w0 W2 := h.m.bel.trans (hG.belowB h.m.bel.size h.m.nz)
  refine ⟨hx2.keep fun k hc _ => setCell_other _ _ _ _ _ fun e => hoff (e ▸ hc), h.m.bk.setL hb2 hR fun k hk => ?_, hrl, hbel.setCell (p := ⟨b, 5, none⟩) h.m.nb _, h.m.nb, h.m.nc, fun k hk => ?_⟩
  · rcases List.mem_append.1 hk with hk | hk
    · exact ⟨hF _ _ (h.m.bk.fl k hk).1, hF _ _ (h.m.bk.fl k hk).2⟩
    · rw [List.mem_singleton.1 hk]
      exact ⟨hF _ _ hq, hF _ _ hr⟩
  · rcases hG.own k hk with e | e
    · exact h.m.nz k e
    · exact Nat.le_trans h.m.bel.size e
/-- what Store tells, and leaves -/
def srP (w0 w' : World) (b g : Nat) (c : Ca) (L : List En) (z : SV) (B : List Kn) (now : Int) (o0 : Nat) (o : Os) (r0 : Nat) (rv : SV) (i : Int) (r : Ending) : Prop :=
  ∃ (ok : Bool) (gs : SV) (n : Nat) (D : List Int) (y' : SV) (L' : List En), r = .returned (.tuple #[.bool ok, sv gs]) ∧ Cs w0 w' b g c y' L' z B now o0 o r0 rv gs D ∧ Sp c L B ok n D (o.rb.size + szL o.fr) ∧ ok = !noB c o.rb o.fr ∧ (ok = false → L' = L.drop n) ∧ (ok = true → ∃ e, L' = L.drop n ++ [e] ∧ Ee e o.q o.Q o.rn o.rb o.fr i c.ck)
theorem Cl.store {V : World} (h : Cl w0 V b g c y L z B now o0 o) (ho : Oi w0 o) (hrb : V.heap[r0]? = some (.cells (rsv o.rn (sv rv) o.rb) 26 (0, 0))) (hrr : R EFd V (sv rv) o.fr) (i : Int) :
    Calls Tryd.prog 11 #[.pointer (some ⟨g, 0, none⟩), .agg (rqv o.q), .agg (rsv o.rn (sv rv) o.rb), .int .i64 i, .int .i64 o.tk] V fun r w' => srP w0 w' b g (hr c o.tk) L z B now o0 o r0 rv i r := by
  have hbel : ∀ w', Ks (Ow g y) V w' → Below w0.heap.size w0 w' := fun w' hk => h.ci.bel.trans (hk.below h.ci.bel.size fun i hi ho => by have := h.ci.nc i ho; omega)
  have hF : ∀ w', Ks (Ow g y) V w' → R EFd w' (sv rv) o.fr := fun w' hk => hrr.stays fun k hk' hl => by
    obtain ⟨cc, hc⟩ := hrr.ty k hk'
    exact hk.block k hl (h.ci.cx.offb hc (show (51 : TypeId) ≠ 83 by decide) (show (51 : TypeId) ≠ 87 by decide))
  have hB : ∀ w', Ks (Ow g y) V w' → w'.heap[r0]? = some (.cells (rsv o.rn (sv rv) o.rb) 26 (0, 0)) := fun w' hk => (hk.block r0 (heap_lt hrb) (h.ci.cx.offb hrb (by decide) (by decide))).trans hrb
  refine (store_any V g c y L h.ci.cx o.q o.Q o.rn rv o.rb o.fr i o.tk ho.tk (fun V' hV' => ho.iq.below (hbel V' hV')) (fun V' hV' => (hF V' hV').isIn) ho.az.zq ho.az.zQ ho.az.zQf ho.az.zb ho.az.zR ho.az.zRf (by have := ho.az.zS; omega) ho.az.zN).mono ?_
  have hu : L.Pairwise fun a b => a.ar ≤ b.ar := h.ci.cx.ok.up
  have mk : ∀ w' y' L' gs D, Ks (Ow g y) V w' → Cx w' g (hr c o.tk) y' L' → (∀ k, Ow g y' k → Ow g y k ∨ V.heap.size ≤ k) → R EI w' (sv gs) D → Cs w0 w' b g (hr c o.tk) y' L' z B now o0 o r0 rv gs D := fun w' y' L' gs D hk hx hy hg =>
    ⟨⟨hx, h.ci.bk.cop h.ci.cx hk, hbel w' hk, h.ci.nb, fun k hk' => (hy k hk').elim (h.ci.nc k) fun e => Nat.le_trans h.ci.bel.size e, h.ci.nz, h.bx.cop h.ci.cx hk⟩, hB w' hk, hF w' hk, hg⟩
  rintro r w' (⟨hno, gs, rfl, hT⟩ | ⟨hno, gs, y1, y2, y3, z', rfl, hx, hz', hk, hgs, hgw, hn⟩)
  · obtain ⟨y', hx, hy⟩ := hT.cx
    obtain ⟨hS, hd⟩ := Sp.no (c := hr c o.tk) h.ci.rl hu (o.rb.size + szL o.fr)
    exact ⟨false, gs, _, _, y', _, rfl, mk w' y' _ gs _ hT.ks hx (fun k hk' => .inl (by rw [← ow_eq hy]; exact hk')) hT.gone, hS, by rw [hno]; rfl, fun _ => hd, fun e => by cases e⟩
  · obtain ⟨n, hS, hd⟩ := Sp.yes (c := hr c o.tk) h.ci.rl hu (o.rb.size + szL o.fr)
    refine ⟨true, gs, n, _, z', _, rfl, mk w' z' _ gs _ hk hx (fun k hk' => ?_) hgs, hS, by rw [hno]; rfl, (fun e => by cases e), fun _ => ⟨_, by rw [hd], ⟨rfl, rfl, rfl, rfl, rfl, rfl, rfl, rfl, rfl⟩⟩⟩
    rcases hk' with rfl | hk'
    · exact .inl (.inl rfl)
    · exact (hz' k hk').elim (fun e => .inl (.inr e)) .inr
end Go.Proofs.YtfponcdhaefkdaaDoor
/- A Tick of the two; the script's steps in a row. -/
namespace Go.Proofs.YtfponcdhaefkdaaDoor
open Go.RowKit
set_option linter.unusedVariables false
set_option linter.unusedSimpArgs false
def EO : El Os := ⟨53, 60, 13, 184, fun o => (opv o).toList⟩
theorem okO : EO.Ok := ⟨Tryd.underlying53, by kernel_rfl, by decide, by decide, fun _ => rfl, fun a u hu => by
  simp only [EO, opv, List.mem_cons, List.not_mem_nil, or_false] at hu
  rcases hu with rfl | rfl | rfl | rfl | rfl | rfl | rfl | rfl | rfl | rfl | rfl | rfl | rfl <;> rfl⟩
def CellsO (W : World) (B q : Nat) (o : Os) : Prop := W.cell? ⟨B, q, none⟩ = some (.int .i64 o.kd) ∧ W.cell? ⟨B, q + 1, none⟩ = some (.bool o.tw) ∧ W.cell? ⟨B, q + 2, none⟩ = some (.string o.q.m) ∧ W.cell? ⟨B, q + 3, none⟩ = some (.string o.q.s) ∧ W.cell? ⟨B, q + 4, none⟩ = some (.string o.q.a) ∧ W.cell? ⟨B, q + 5, none⟩ = some (.string o.q.p) ∧ W.cell? ⟨B, q + 6, none⟩ = some (sv o.q.y) ∧ W.cell? ⟨B, q + 7, none⟩ = some (.string o.q.b) ∧ W.cell? ⟨B, q + 8, none⟩ = some (.int .i64 o.rn) ∧ W.cell? ⟨B, q + 9, none⟩ = some (sv o.ry) ∧ W.cell? ⟨B, q + 10, none⟩ = some (.string o.rb) ∧ W.cell? ⟨B, q + 11, none⟩ = some (.int .i64 o.st) ∧ W.cell? ⟨B, q + 12, none⟩ = some (.int .i64 o.tk)
theorem In.op {w : World} {v : Value} {l : List Os} (h : In EO w v l) (k : Nat) (hk : k < l.length) : ∃ B off cap, v = .slice (some ⟨B, off, none⟩) l.length cap ∧ ∀ W, Below w.heap.size w W → CellsO W B (off + k * 13) l[k] := by
  obtain ⟨B, off, cap, e, hB, d⟩ := h.get okO k hk
  exact ⟨B, off, cap, e, fun W hb => ⟨(hb.cell hB).trans (d 0 _ rfl), (hb.cell hB).trans (d 1 _ rfl), (hb.cell hB).trans (d 2 _ rfl), (hb.cell hB).trans (d 3 _ rfl), (hb.cell hB).trans (d 4 _ rfl), (hb.cell hB).trans (d 5 _ rfl), (hb.cell hB).trans (d 6 _ rfl), (hb.cell hB).trans (d 7 _ rfl), (hb.cell hB).trans (d 8 _ rfl), (hb.cell hB).trans (d 9 _ rfl), (hb.cell hB).trans (d 10 _ rfl), (hb.cell hB).trans (d 11 _ rfl), (hb.cell hB).trans (d 12 _ rfl)⟩⟩
variable {w0 W W' : World} {b g : Nat} {c c' : Ca} {y y' : SV} {L L' : List En} {z z' : SV} {B B' : List Kn} {now : Int} {o0 r0 : Nat} {o : Os} {rv gs : SV} {D : List Int}
theorem Cj.went (h : Cj w0 W b g c y L z B now o0 o) (hw : Wn W W' b g c.me c.mb c.lf z z' B' now gs D) (hr : Rl L B') : Ci w0 W' b g c y L z' B' now := by
  have hoff : ¬ Cb g y L b := h.cx.offk h.bk.blk (by decide) (by decide) (by decide) (by decide)
  exact ⟨h.cx.keep fun k hc hl => hw.ks.block k hl fun e => hoff (e ▸ hc), hw.bk, hr, h.bel.trans (hw.ks.below h.bel.size fun i hi e => by have := h.nb; omega), h.nb, h.nc, fun k hk => (hw.own k hk).elim (h.nz k) fun e => Nat.le_trans h.bel.size e⟩
/-- what Tick tells, and leaves -/
def tiP (w0 w' : World) (b g : Nat) (c : Ca) (L : List En) (z : SV) (B : List Kn) (now : Int) (o0 : Nat) (o : Os) (r : Ending) : Prop :=
  ∃ (gs : SV) (n : Nat) (D : List Int) (y' : SV), r = .returned (sv gs) ∧ Cj w0 w' b g c y' (L.drop n) z B now o0 o ∧ R EI w' (sv gs) D ∧ Sp c L B false n D 0
theorem Cl.tick {V : World} (h : Cl w0 V b g c y L z B now o0 o) (t : Int) (ht : t ≤ 9223372036854775807) :
    Calls Tryd.prog 10 #[.pointer (some ⟨g, 0, none⟩), .int .i64 t] V fun r w' => tiP w0 w' b g (hr c t) L z B now o0 o r := by
  have hbel : ∀ w', Ks (Ow g y) V w' → Below w0.heap.size w0 w' := fun w' hk => h.ci.bel.trans (hk.below h.ci.bel.size fun i hi ho => by have := h.ci.nc i ho; omega)
  refine (tick_any V g c y L h.ci.cx t ht).mono ?_
  rintro r w' ⟨gs, rfl, hT⟩
  obtain ⟨y', hx, hy⟩ := hT.cx
  obtain ⟨hS, hd⟩ := Sp.no (c := hr c t) h.ci.rl h.ci.cx.ok.up 0
  rw [hd] at hx
  exact ⟨gs, _, _, y', rfl, ⟨hx, h.ci.bk.cop h.ci.cx hT.ks, hbel w' hT.ks, h.ci.nb, fun k hk => h.ci.nc k (by rw [← ow_eq hy]; exact hk), h.ci.nz, h.bx.cop h.ci.cx hT.ks⟩, hT.gone, hS⟩
/-- between two steps of the script -/
structure Kp (w0 W : World) (b g : Nat) (me mb lf : Int) (c : Ca) (y : SV) (L : List En) (z : SV) (B : List Kn) (i : Nat) : Prop where
  ci : Ci w0 W b g c y L z B c.ck
  cc : c.me = me ∧ c.mb = mb ∧ c.lf = lf
  st : ∀ x ∈ B, x.st < (i : Int)
  pw : B.Pairwise fun a b => a.st < b.st
theorem Kp.below {i : Nat} {me mb lf : Int} (h : Kp w0 W b g me mb lf c y L z B i) (hb : Below W.heap.size W W') : Kp w0 W' b g me mb lf c y L z B i := ⟨h.ci.below hb, h.cc, h.st, h.pw⟩
def KpE (w0 W : World) (b g : Nat) (me mb lf : Int) (i : Nat) : Prop := ∃ c y L z B, Kp w0 W b g me mb lf c y L z B i
theorem hr_cc {me mb lf : Int} (h : c.me = me ∧ c.mb = mb ∧ c.lf = lf) (t : Int) : (hr c t).me = me ∧ (hr c t).mb = mb ∧ (hr c t).lf = lf := h
end Go.Proofs.YtfponcdhaefkdaaDoor
