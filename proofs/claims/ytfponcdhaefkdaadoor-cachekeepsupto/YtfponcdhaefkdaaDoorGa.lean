/- Holds and Claim, of the cache and the book. -/
import Derived.Test.YtfponcdhaefkdaaDoorG5
import Derived.Deep.RegionHeld3
namespace Go.Proofs.YtfponcdhaefkdaaDoor
open Go.RowKit
set_option linter.unusedVariables false
set_option linter.unusedSimpArgs false
/-- the two, and a step of the script in its box -/
structure Cl (w0 W : World) (b g : Nat) (c : Ca) (y : SV) (L : List En) (z : SV) (B : List Kn) (now : Int) (o0 : Nat) (o : Os) : Prop where
  ci : Ci w0 W b g c y L z B now
  bx : Bx' W o0 (opv o) 60
theorem Cl.below {w0 W W' : World} {b g : Nat} {c : Ca} {y : SV} {L : List En} {z : SV} {B : List Kn} {now : Int} {o0 : Nat} {o : Os} (h : Cl w0 W b g c y L z B now o0 o) (hb : Below W.heap.size W W') : Cl w0 W' b g c y L z B now o0 o := ⟨h.ci.below hb, h.bx.below hb⟩
theorem Cl.setNow {w0 W : World} {b g : Nat} {c : Ca} {y : SV} {L : List En} {z : SV} {B : List Kn} {now : Int} {o0 : Nat} {o : Os} (h : Cl w0 W b g c y L z B now o0 o) (n : Int) : Cl w0 (W.setCell ⟨b, 6, none⟩ (.int .i64 n)) b g c y L z B n o0 o := ⟨h.ci.setNow n, h.bx.bop h.ci.bk _ _⟩
theorem Cl.cop {w0 W W' : World} {b g : Nat} {c c' : Ca} {y y' : SV} {L L' : List En} {z : SV} {B : List Kn} {now : Int} {o0 : Nat} {o : Os} (h : Cl w0 W b g c y L z B now o0 o) (hk : Ks (Ow g y) W W') (hx : Cx W' g c' y' L') (h1 : c'.me = c.me ∧ c'.mb = c.mb ∧ c'.lf = c.lf) (ho : ∀ k, Ow g y' k → Ow g y k ∨ W.heap.size ≤ k) (hr : Rl L' B) : Cl w0 W' b g c' y' L' z B now o0 o := ⟨h.ci.cop hk hx h1 ho hr, h.bx.cop h.ci.cx hk⟩
theorem ite_take {c : Prop} [Decidable c] {A B : Prop} (h : c) (a : A) : if c then A else B := by rw [if_pos h]; exact a
/-- where the first stands -/
structure Fi' (B : List Kn) (p : Kn → Bool) (i : Nat) (k : Option Nat) : Prop where
  no : k = none → i ≤ B.length ∧ ∀ j (hj : j < B.length), j < i → p B[j] = false
  yes : ∀ m, k = some m → i ≤ B.length ∧ ∃ hm : m < B.length, p B[m] = true ∧ ∀ j (hj : j < B.length), j < m → p B[j] = false
theorem Fi'.find {B : List Kn} {p : Kn → Bool} {i : Nat} {k : Option Nat} (h : Fi' B p i k) (hi : k = none → B.length ≤ i) : B.findIdx? p = k := by
  cases k with
  | none =>
    have := h.no rfl
    have h2 := hi rfl
    exact List.findIdx?_eq_none_iff.2 fun x hx => by
      obtain ⟨j, hj, rfl⟩ := List.getElem_of_mem hx
      exact this.2 j hj (by omega)
  | some m =>
    obtain ⟨_, hm, h1, h2⟩ := h.yes m rfl
    exact List.findIdx?_eq_some_iff_getElem.2 ⟨hm, h1, fun j hj => by rw [h2 j (by omega) hj]; simp⟩
theorem Fi'.no1 {B : List Kn} {p : Kn → Bool} {i : Nat} (h : Fi' B p i none) (hi : i < B.length) (hp : p B[i] = false) : Fi' B p (i + 1) none :=
  ⟨fun _ => ⟨by omega, fun j hj hji => by
    by_cases e : j = i
    · subst e; exact hp
    · exact (h.no rfl).2 j hj (by omega)⟩, fun m hm => by cases hm⟩
theorem Fi'.yes1 {B : List Kn} {p : Kn → Bool} {i : Nat} (h : Fi' B p i none) (hi : i < B.length) (hp : p B[i] = true) : Fi' B p (i + 1) (some i) :=
  ⟨fun e => (by cases e), fun m hm => by
    injection hm with hm
    subst hm
    exact ⟨by omega, hi, hp, (h.no rfl).2⟩⟩
/-- the same, but for what relates them -/
structure Cj (w0 W : World) (b g : Nat) (c : Ca) (y : SV) (L : List En) (z : SV) (B : List Kn) (now : Int) (o0 : Nat) (o : Os) : Prop where
  cx : Cx W g c y L
  bk : Bk W b g c.me c.mb c.lf z B now
  bel : Below w0.heap.size w0 W
  nb : w0.heap.size ≤ b
  nc : ∀ k, Ow g y k → w0.heap.size ≤ k
  nz : ∀ k, (sv z).ownBlock = some k → w0.heap.size ≤ k
  bx : Bx' W o0 (opv o) 60
theorem Cj.below {w0 W W' : World} {b g : Nat} {c : Ca} {y : SV} {L : List En} {z : SV} {B : List Kn} {now : Int} {o0 : Nat} {o : Os} (h : Cj w0 W b g c y L z B now o0 o) (hb : Below W.heap.size W W') : Cj w0 W' b g c y L z B now o0 o := ⟨h.cx.below hb, h.bk.below hb, h.bel.trans (hb.mono h.bel.size), h.nb, h.nc, h.nz, h.bx.below hb⟩
theorem Cj.ci {w0 W : World} {b g : Nat} {c : Ca} {y : SV} {L : List En} {z : SV} {B : List Kn} {now : Int} {o0 : Nat} {o : Os} (h : Cj w0 W b g c y L z B now o0 o) (hr : Rl L B) : Ci w0 W b g c y L z B now := ⟨h.cx, h.bk, hr, h.bel, h.nb, h.nc, h.nz⟩
theorem Cl.cm {w0 W : World} {b g : Nat} {c : Ca} {y : SV} {L : List En} {z : SV} {B : List Kn} {now : Int} {o0 : Nat} {o : Os} (h : Cl w0 W b g c y L z B now o0 o) : Cj w0 W b g c y L z B now o0 o := ⟨h.ci.cx, h.ci.bk, h.ci.bel, h.ci.nb, h.ci.nc, h.ci.nz, h.bx⟩
/-- a box of its own is written -/
theorem Cj.box {w0 W : World} {b g : Nat} {c : Ca} {y : SV} {L : List En} {z : SV} {B : List Kn} {now : Int} {o0 : Nat} {o : Os} (h : Cj w0 W b g c y L z B now o0 o) {r0 : Nat} {cc : Array Value} {t : TypeId} {fz : Nat × Nat} (hb : W.heap[r0]? = some (.cells cc t fz)) (h1 : t ≠ 83 ∧ t ≠ 87 ∧ t ≠ 51 ∧ t ≠ 9 ∧ t ≠ 58 ∧ t ≠ 95 ∧ t ≠ 60) (h2 : w0.heap.size ≤ r0) (i : Nat) (v : Value) : Cj w0 (W.setCell ⟨r0, i, none⟩ v) b g c y L z B now o0 o :=
  ⟨h.cx.keep fun k hc _ => setCell_other _ _ _ _ _ fun e => h.cx.offk hb h1.1 h1.2.1 h1.2.2.1 h1.2.2.2.1 (e ▸ hc), h.bk.keep fun k c' t' fz' hk ht => setCell_other _ _ _ _ _ (ty_ne hk hb (fun e => by
    subst e
    rcases ht with ht | ht | ht
    · exact h1.2.2.2.2.1 ht
    · exact h1.2.2.2.2.2.1 ht
    · exact h1.2.2.1 ht)), h.bel.setCell (p := ⟨r0, i, none⟩) h2 v, h.nb, h.nc, h.nz, ⟨(setCell_other _ _ _ _ _ (ty_ne h.bx.blk hb (fun e => h1.2.2.2.2.2.2 e.symm))).trans h.bx.blk, h.bx.ty⟩⟩
theorem Cj.setL {w0 W V : World} {b g : Nat} {c : Ca} {y : SV} {L : List En} {z z' : SV} {B B' : List Kn} {now : Int} {o0 : Nat} {o : Os} (h : Cj w0 W b g c y L z B now o0 o) (hb : Below W.heap.size W V) (hR : R EK V (sv z') B') (hn : ∀ k, (sv z').ownBlock = some k → W.heap.size ≤ k) (hs : ∀ k ∈ B', k ∈ B) (hr : Rl L B') : Ci w0 (V.setCell ⟨b, 5, none⟩ (sv z')) b g c y L z' B' now := by
  have hV := h.below hb
  have hoff : ¬ Cb g y L b := hV.cx.offk hV.bk.blk (by decide) (by decide) (by decide) (by decide)
  exact ⟨hV.cx.keep fun k hc _ => setCell_other _ _ _ _ _ fun e => hoff (e ▸ hc), hV.bk.setL rfl hR fun k hk => hV.bk.fl k (hs k hk), hr, hV.bel.setCell (p := ⟨b, 5, none⟩) hV.nb _, hV.nb, hV.nc, fun k hk => Nat.le_trans h.bel.size (hn k hk)⟩
theorem hr_hr (c : Ca) (t : Int) : hr (hr c t) t = hr c t := by
  unfold hr
  simp only
  congr 1
  omega
/-- Holds, of the two -/
theorem Cl.holds {w0 V : World} {b g : Nat} {c : Ca} {y : SV} {L : List En} {z : SV} {B : List Kn} {now : Int} {o0 : Nat} {o : Os} (h : Cl w0 V b g c y L z B now o0 o) (ho : Oi w0 o) (ko : Option Nat) (hko : B.findIdx? (anK (hr c o.tk).ck c.lf o.q o.Q) = ko) :
    Calls Tryd.prog 14 #[.pointer (some ⟨g, 0, none⟩), .agg (rqv o.q), .int .i64 o.tk] V fun r w' => r = .returned (.bool ko.isSome) ∧ Cl w0 w' b g (hr c o.tk) y L z B now o0 o := by
  have hin : ∀ V', Ks (fun k => k = g) V V' → In EFd V' (sv o.q.y) o.Q := fun V' hV' => ho.iq.below (h.ci.bel.trans (hV'.below h.ci.bel.size fun i hi e => by have := h.ci.nc i (.inl e); omega))
  refine (holds_any V g c y L h.ci.cx o.q o.Q (ho.iq.below h.ci.bel) ho.az.zQ hin o.tk ho.tk).mono ?_
  rintro r w' ⟨rfl, hx, hk⟩
  refine ⟨?_, h.cop (ks_g hk) hx ⟨rfl, rfl, rfl⟩ (fun k hk => .inl hk) h.ci.rl⟩
  have e : L.findIdx? (anB (hr c o.tk) o.q o.Q) = ko := (h.ci.rl.find (hr c o.tk) o.q o.Q).trans hko
  rw [plI_oI, e]
  cases ko with
  | none => rfl
  | some k => simp [oI]
/-- what Claim tells, and leaves -/
def cmP (w0 V w' : World) (b g : Nat) (c : Ca) (y : SV) (L : List En) (z : SV) (B : List Kn) (now : Int) (o0 : Nat) (o : Os) (r : Ending) : Option Nat → Prop
  | none => r = .returned (.tuple #[.agg #[.int .i64 0, .slice none 0 0, .string ⟨#[]⟩], .int .i64 0, .bool false]) ∧ Cj w0 w' b g c y L z B now o0 o ∧ Rl L B ∧ Ks (Ow g y) V w'
  | some i => ∃ hi : i < B.length, ∃ v y' : SV, r = .returned (.tuple #[.agg (rsv B[i].rn (sv v) B[i].rb), .int .i64 B[i].st, .bool true]) ∧ R EFd w' (sv v) B[i].fr ∧ Cj w0 w' b g c y' (L.eraseIdx i) z B now o0 o ∧ Rl (L.eraseIdx i) (B.eraseIdx i) ∧ Ks (Ow g y) V w'
theorem Cl.claim {w0 V : World} {b g : Nat} {c : Ca} {y : SV} {L : List En} {z : SV} {B : List Kn} {now : Int} {o0 : Nat} {o : Os} (h : Cl w0 V b g (hr c o.tk) y L z B now o0 o) (ho : Oi w0 o) (ko : Option Nat) (hko : B.findIdx? (anK (hr c o.tk).ck c.lf o.q o.Q) = ko) :
    Calls Tryd.prog 13 #[.pointer (some ⟨g, 0, none⟩), .agg (rqv o.q), .int .i64 o.tk] V fun r w' => cmP w0 V w' b g (hr c o.tk) y L z B now o0 o r ko := by
  have hin : ∀ V', Ks (fun k => k = g) V V' → In EFd V' (sv o.q.y) o.Q := fun V' hV' => ho.iq.below (h.ci.bel.trans (hV'.below h.ci.bel.size fun i hi e => by have := h.ci.nc i (.inl e); omega))
  refine (claim_any V g (hr c o.tk) y L h.ci.cx o.q o.Q ho.az.zQ hin o.tk ho.tk).mono ?_
  rw [hr_hr]
  have e : L.findIdx? (anB (hr c o.tk) o.q o.Q) = ko := (h.ci.rl.find (hr c o.tk) o.q o.Q).trans hko
  rw [e]
  have hbel : ∀ w', Ks (Ow g y) V w' → Below w0.heap.size w0 w' := fun w' hk => h.ci.bel.trans (hk.below h.ci.bel.size fun i hi ho => by have := h.ci.nc i ho; omega)
  rintro r w' (⟨rfl, rfl, hx, hk⟩ | ⟨i, hi, rfl, rfl, z', hx, hz, hk, hE⟩)
  · exact ⟨rfl, ⟨hx, h.ci.bk.cop h.ci.cx hk, hbel w' hk, h.ci.nb, h.ci.nc, h.ci.nz, h.bx.cop h.ci.cx hk⟩, h.ci.rl, hk⟩
  · have hiB : i < B.length := by have := h.ci.rl.len; omega
    have hre := (h.ci.rl.re i hi hiB).ee
    refine ⟨hiB, L[i].ry, z', by rw [hre.rn, hre.rb, hre.st], by have := hE.r; rw [hre.rf] at this; exact this, ⟨hx, h.ci.bk.cop h.ci.cx hk, hbel w' hk, h.ci.nb, fun k hk' => h.ci.nc k (by rw [← ow_eq hz]; exact hk'), h.ci.nz, h.bx.cop h.ci.cx hk⟩, h.ci.rl.erase i, hk⟩
end Go.Proofs.YtfponcdhaefkdaaDoor
