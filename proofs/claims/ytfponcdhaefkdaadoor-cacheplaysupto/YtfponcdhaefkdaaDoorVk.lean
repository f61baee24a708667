import Derived.Test.YtfponcdhaefkdaaDoorH7
import Derived.Test.YtfponcdhaefkdaaDoorH8
import Derived.Test.YtfponcdhaefkdaaDoorVh
import Derived.Test.YtfponcdhaefkdaaDoorVj
/- The cache's lists and the document's: plain facts. -/
namespace Go.Proofs.YtfponcdhaefkdaaDoor
open Go.RowKit
set_option linter.unusedVariables false
set_option linter.unusedSimpArgs false
theorem refN : RefN := fun n y b l w hI hz hp => rnames_any n y b l w hI hz hp
theorem refM : RefM := fun p q t P Q l w hP hQ hl zP zQ => rmatch_any p q t P Q l w hP hQ hl zP zQ
theorem Re.ex {e : En} {k : Kn} (h : Re e k) (c : Ca) : exB c e = exK c.ck c.lf k := by
  unfold exB exK
  rw [h.ee.ar]
/-- what is late goes, alike -/
theorem Rl.filt {L : List En} {B : List Kn} (h : Rl L B) (hu : L.Pairwise fun a b => a.ar ≤ b.ar) (c : Ca) : (L.takeWhile (exB c)).map (·.st) = (B.filter (exK c.ck c.lf)).map (·.st) ∧ Rl (L.dropWhile (exB c)) (B.filter fun k => !exK c.ck c.lf k) := by
  induction L generalizing B with
  | nil => cases B with
    | nil => exact ⟨rfl, Rl.nil⟩
    | cons k B => have := h.len; simp at this
  | cons e L ih => cases B with
    | nil => have := h.len; simp at this
    | cons k B =>
      obtain ⟨h1, h2⟩ := h.tail
      obtain ⟨u1, u2⟩ := List.pairwise_cons.1 hu
      by_cases hx : exB c e = true
      · have hk : exK c.ck c.lf k = true := by rw [← h1.ex c]; exact hx
        have i := ih h2 u2
        rw [List.takeWhile_cons_of_pos hx, List.dropWhile_cons_of_pos hx, List.filter_cons_of_pos hk, List.filter_cons_of_neg (by rw [hk]; simp), List.map_cons, List.map_cons, i.1, h1.ee.st]
        exact ⟨rfl, i.2⟩
      · have hx' : exB c e = false := by simpa using hx
        have hy := young_all (c := c) (L := e :: L) hu
        rw [List.dropWhile_cons_of_neg hx] at hy
        have hall : ∀ k' ∈ k :: B, exK c.ck c.lf k' = false := fun k' hk' => by
          obtain ⟨e', he', hr'⟩ := h.mem hk'
          rw [← hr'.ex c]
          exact hy e' he'
        have f1 : (k :: B).filter (exK c.ck c.lf) = [] := List.filter_eq_nil_iff.2 fun k' hk' => by rw [hall k' hk']; simp
        have f2 : ((k :: B).filter fun k => !exK c.ck c.lf k) = k :: B := List.filter_eq_self.2 fun k' hk' => by rw [hall k' hk']; rfl
        rw [List.takeWhile_cons_of_neg hx, List.dropWhile_cons_of_neg hx, f1, f2]
        exact ⟨rfl, h⟩
theorem Rl.lk {L : List En} {B : List Kn} (h : Rl L B) (c : Ca) (z : Nat) : lkB c L z = lkK c.me c.mb B z := by
  unfold lkB lkK
  rw [h.tot, h.len]
  congr 1
  rw [Bool.eq_iff_iff]
  simp only [decide_eq_true_eq]
  omega
/-- what there is no room for goes, alike -/
theorem Rl.ev {L : List En} {B : List Kn} (h : Rl L B) (c : Ca) (z : Nat) : (evD c z L).map (·.st) = (ekD c.me c.mb z B).map (·.st) ∧ Rl (evL c z L) (ekL c.me c.mb z B) := by
  induction L generalizing B with
  | nil => cases B with
    | nil => exact ⟨rfl, Rl.nil⟩
    | cons k B => have := h.len; simp at this
  | cons e L ih => cases B with
    | nil => have := h.len; simp at this
    | cons k B =>
      obtain ⟨h1, h2⟩ := h.tail
      have hl := h.lk c z
      have i := ih h2
      unfold evD evL ekD ekL
      rw [← hl]
      by_cases hx : lkB c (e :: L) z = true
      · rw [if_pos hx, if_pos hx, if_pos hx, if_pos hx, List.map_cons, List.map_cons, i.1, h1.ee.st]
        exact ⟨rfl, i.2⟩
      · rw [if_neg hx, if_neg hx, if_neg hx, if_neg hx]
        exact ⟨rfl, h⟩
theorem noB_noK (c : Ca) (b : ByteArray) (fr : List Fd) : noB c b fr = noK c.me c.mb b fr := rfl
end Go.Proofs.YtfponcdhaefkdaaDoor
/- A cache and the document's, side by side. -/
namespace Go.Proofs.YtfponcdhaefkdaaDoor
open Go.RowKit
set_option linter.unusedVariables false
set_option linter.unusedSimpArgs false
/-- both in memory, apart, made since w0 -/
structure Ph (w0 W : World) (g : Nat) (c : Ca) (y : SV) (L : List En) (b : Nat) (me mb lf pd : Int) (z : SV) (B : List Kn) (now : Int) : Prop where
  cx : Cx W g c y L
  rc : Rc W b me mb lf pd z B now
  ap : ∀ k, Cb g y L k → ¬ Rb b z B k
  lo : ∀ k, (Cb g y L k ∨ Rb b z B k) → w0.heap.size ≤ k
variable {w0 W W' : World} {g : Nat} {c c' : Ca} {y y' : SV} {L L' : List En} {b : Nat} {me mb lf pd : Int} {z z' : SV} {B B' : List Kn} {now now' : Int}
theorem Ph.keep (h : Ph w0 W g c y L b me mb lf pd z B now) (hk : ∀ k, (Cb g y L k ∨ Rb b z B k) → k < W.heap.size → W'.heap[k]? = W.heap[k]?) : Ph w0 W' g c y L b me mb lf pd z B now := ⟨h.cx.keep fun k hc hl => hk k (.inl hc) hl, h.rc.keep fun k hc hl => hk k (.inr hc) hl, h.ap, h.lo⟩
theorem Ph.below (h : Ph w0 W g c y L b me mb lf pd z B now) (hb : Below W.heap.size W W') : Ph w0 W' g c y L b me mb lf pd z B now := h.keep fun k _ hl => hb.block k hl
theorem Ph.lt (h : Ph w0 W g c y L b me mb lf pd z B now) {k : Nat} (hk : Cb g y L k ∨ Rb b z B k) : k < W.heap.size := hk.elim (fun e => h.cx.lt e) (fun e => h.rc.lt e)
/-- the cache does something -/
theorem Ph.cop (h : Ph w0 W g c y L b me mb lf pd z B now) (hw : w0.heap.size ≤ W.heap.size) (hk : Ks (Ow g y) W W') (hx : Cx W' g c' y' L') (hl : ∀ k, Cb g y' L' k → Cb g y L k ∨ W.heap.size ≤ k) : Ph w0 W' g c' y' L' b me mb lf pd z B now :=
  ⟨hx, h.rc.keep fun k hr hlt => hk.block k hlt fun ho => h.ap k (.inl ho) hr, fun k hc hr => (hl k hc).elim (fun e => h.ap k e hr) fun e => by have := h.rc.lt hr; omega, fun k hk' => hk'.elim (fun hc => (hl k hc).elim (fun e => h.lo k (.inl e)) fun e => Nat.le_trans hw e) (fun hr => h.lo k (.inr hr))⟩
/-- the document's does something -/
theorem Ph.rop (h : Ph w0 W g c y L b me mb lf pd z B now) (hw : w0.heap.size ≤ W.heap.size) (hk : Ks (fun k => k = b) W W') (hx : Rc W' b me mb lf pd z' B' now') (hl : ∀ k, Rb b z' B' k → Rb b z B k ∨ W.heap.size ≤ k) : Ph w0 W' g c y L b me mb lf pd z' B' now' :=
  ⟨h.cx.keep fun k hc hlt => hk.block k hlt fun e => h.ap k hc (.inl e), hx, fun k hc hr => (hl k hr).elim (fun e => h.ap k hc e) fun e => by have := h.cx.lt hc; omega, fun k hk' => hk'.elim (fun hc => h.lo k (.inl hc)) (fun hr => (hl k hr).elim (fun e => h.lo k (.inr e)) fun e => Nat.le_trans hw e)⟩
/-- a pair: both keep the same -/
structure Pq (w0 W : World) (g : Nat) (c : Ca) (y : SV) (L : List En) (b : Nat) (pd : Int) (z : SV) (B : List Kn) : Prop where
  ph : Ph w0 W g c y L b c.me c.mb c.lf pd z B c.ck
  rl : Rl L B
  kv : ∀ k ∈ B, Kv k
theorem Pq.below {pd : Int} (h : Pq w0 W g c y L b pd z B) (hb : Below W.heap.size W W') : Pq w0 W' g c y L b pd z B := ⟨h.ph.below hb, h.rl, h.kv⟩
theorem Pq.keep {pd : Int} (h : Pq w0 W g c y L b pd z B) (hk : ∀ k, (Cb g y L k ∨ Rb b z B k) → k < W.heap.size → W'.heap[k]? = W.heap[k]?) : Pq w0 W' g c y L b pd z B := ⟨h.ph.keep hk, h.rl, h.kv⟩
theorem Pq.ar {pd : Int} (h : Pq w0 W g c y L b pd z B) : ∀ k ∈ B, 0 ≤ k.ar ∧ k.ar ≤ c.ck := h.rl.ar h.ph.cx.ok
theorem Pq.len {pd : Int} (h : Pq w0 W g c y L b pd z B) : B.length ≤ 64 := by have := h.ph.cx.ok.len; have := h.ph.cx.ok.me; have := h.rl.len; omega
theorem Pq.tot {pd : Int} (h : Pq w0 W g c y L b pd z B) : totK B ≤ 1152921504606846976 := by have := h.ph.cx.ok.tot; have := h.ph.cx.ok.mb; have := h.rl.tot; omega
/-- Tick of the cache -/
theorem Pq.tick {pd : Int} (h : Pq w0 W g c y L b pd z B) (hw : w0.heap.size ≤ W.heap.size) (t : Int) (ht : t ≤ 9223372036854775807) :
    Calls Tryd.prog 10 #[.pointer (some ⟨g, 0, none⟩), .int .i64 t] W fun r w' => ∃ gs y' : SV, r = .returned (sv gs) ∧ R EI w' (sv gs) ((L.takeWhile (exB (hr c t))).map (·.st)) ∧ (∀ k, (sv gs).ownBlock = some k → W.heap.size ≤ k) ∧ Ks (Ow g y) W w' ∧ Ph w0 w' g (hr c t) y' (L.dropWhile (exB (hr c t))) b c.me c.mb c.lf pd z B c.ck ∧ (∀ k, Cb g y' (L.dropWhile (exB (hr c t))) k → Cb g y L k ∨ W.heap.size ≤ k) := by
  refine (tick_any W g c y L h.ph.cx t ht).mono ?_
  rintro r w' ⟨gs, rfl, hT⟩
  obtain ⟨y', hx, hy⟩ := hT.cx
  have hl : ∀ k, Cb g y' (L.dropWhile (exB (hr c t))) k → Cb g y L k ∨ W.heap.size ≤ k := fun k hk => .inl (cb_sub hy (fun e he => (List.dropWhile_sublist _).subset he) hk)
  exact ⟨gs, y', rfl, hT.gone, hT.new, hT.ks, h.ph.cop hw hT.ks hx hl, hl⟩
/-- then Tick of the document's -/
theorem Pq.rtick {pd : Int} {W0 : World} (h : Pq w0 W0 g c y L b pd z B) (hw : w0.heap.size ≤ W.heap.size) (t : Int) (ht : t ≤ 9223372036854775807) (hp : Ph w0 W g (hr c t) y' (L.dropWhile (exB (hr c t))) b c.me c.mb c.lf pd z B c.ck) :
    Calls Tryd.prog 52 #[.pointer (some ⟨b, 0, none⟩), .int .i64 t] W fun r w' => ∃ gs z' : SV, r = .returned (sv gs) ∧ R EI w' (sv gs) ((L.takeWhile (exB (hr c t))).map (·.st)) ∧ Ks (fun k => k = b) W w' ∧ Pq w0 w' g (hr c t) y' (L.dropWhile (exB (hr c t))) b pd z' (B.filter fun k => !exK (hr c t).ck c.lf k) ∧ (∀ k, Rb b z' (B.filter fun k => !exK (hr c t).ck c.lf k) k → Rb b z B k ∨ W.heap.size ≤ k) := by
  refine (rtick_any W b c.me c.mb c.lf pd z B c.ck hp.rc t ht h.ar h.ph.cx.ok.ck h.len).mono ?_
  rintro r w' ⟨gs, z', rfl, hR, hg, hk, hn, hz⟩
  obtain ⟨f1, f2⟩ := h.rl.filt h.ph.cx.ok.up (hr c t)
  have hl : ∀ k, Rb b z' (B.filter fun k => !exK (hr c t).ck c.lf k) k → Rb b z B k ∨ W.heap.size ≤ k := fun k hk' => by
    rcases hk' with rfl | hk' | ⟨x, hx, hk'⟩
    · exact .inl (.inl rfl)
    · exact .inr (hz k hk')
    · exact .inl (.inr (.inr ⟨x, (List.mem_filter.1 hx).1, hk'⟩))
  exact ⟨gs, z', rfl, by rw [f1]; exact hg, hk, ⟨hp.rop hw hk hR hl, f2, fun k hk' => h.kv k (List.mem_filter.1 hk').1⟩, hl⟩
/-- Holds of the cache -/
theorem Pq.holds {pd : Int} (h : Pq w0 W g c y L b pd z B) (hw : w0.heap.size ≤ W.heap.size) (q : Rq) (Q : List Fd) (hQ : ∀ V, Ks (fun k => k = g) W V → In EFd V (sv q.y) Q) (zQ : Q.length ≤ 1099511627776) (t : Int) (ht : t ≤ 9223372036854775807) :
    Calls Tryd.prog 14 #[.pointer (some ⟨g, 0, none⟩), .agg (rqv q), .int .i64 t] W fun r w' => r = .returned (.bool (B.findIdx? (anK (hr c t).ck c.lf q Q)).isSome) ∧ Ks (fun k => k = g) W w' ∧ Ph w0 w' g (hr c t) y L b c.me c.mb c.lf pd z B c.ck := by
  refine (holds_any W g c y L h.ph.cx q Q (hQ W (Ks.refl _ _)) zQ hQ t ht).mono ?_
  rintro r w' ⟨rfl, hx, hk⟩
  refine ⟨?_, hk, h.ph.cop hw (ks_g hk) hx fun k hk => .inl hk⟩
  have e := h.rl.find (hr c t) q Q
  rw [plI_oI, e]
  show _ = Ending.returned (.bool (B.findIdx? (anK (hr c t).ck (hr c t).lf q Q)).isSome)
  cases B.findIdx? (anK (hr c t).ck (hr c t).lf q Q) with
  | none => rfl
  | some k => simp [oI]
/-- then Holds of the document's -/
theorem Pq.rholds {pd : Int} {W0 : World} (h : Pq w0 W0 g c y L b pd z B) (hw : w0.heap.size ≤ W.heap.size) (q : Rq) (Q : List Fd) (hQ : ∀ V, Ks (fun k => k = b) W V → In EFd V (sv q.y) Q) (zQ : Q.length ≤ 1099511627776) (t : Int) (ht : t ≤ 9223372036854775807) (hp : Ph w0 W g (hr c t) y L b c.me c.mb c.lf pd z B c.ck) :
    Calls Tryd.prog 51 #[.pointer (some ⟨b, 0, none⟩), .agg (rqv q), .int .i64 t] W fun r w' => r = .returned (.bool (B.findIdx? (anK (hr c t).ck c.lf q Q)).isSome) ∧ Ks (fun k => k = b) W w' ∧ Pq w0 w' g (hr c t) y L b pd z B := by
  refine (rholds_any refN refM W b c.me c.mb c.lf pd z B c.ck hp.rc q Q hQ zQ t ht h.ar h.ph.cx.ok.ck h.kv).mono ?_
  rintro r w' ⟨rfl, hR, hk⟩
  exact ⟨rfl, hk, ⟨hp.rop hw hk hR fun k hk => .inl hk, h.rl, h.kv⟩⟩
end Go.Proofs.YtfponcdhaefkdaaDoor
/- A cache and the document's: Claim and Store. -/
namespace Go.Proofs.YtfponcdhaefkdaaDoor
open Go.RowKit
set_option linter.unusedVariables false
set_option linter.unusedSimpArgs false
variable {w0 W W' : World} {g : Nat} {c c' : Ca} {y y' : SV} {L L' : List En} {b : Nat} {me mb lf pd : Int} {z z' : SV} {B B' : List Kn} {now now' : Int}
/-- what Claim tells, and leaves -/
def pcP (w0 W w' : World) (g : Nat) (c : Ca) (y : SV) (L : List En) (b : Nat) (me mb lf pd : Int) (z : SV) (B : List Kn) (now : Int) (r : Ending) : Option Nat → Prop
  | none => r = .returned (.tuple #[.agg #[.int .i64 0, .slice none 0 0, .string ⟨#[]⟩], .int .i64 0, .bool false]) ∧ Ks (Ow g y) W w' ∧ Ph w0 w' g c y L b me mb lf pd z B now
  | some i => ∃ hi : i < B.length, ∃ v y' : SV, r = .returned (.tuple #[.agg (rsv B[i].rn (sv v) B[i].rb), .int .i64 B[i].st, .bool true]) ∧ R EFd w' (sv v) B[i].fr ∧ (∀ k, (sv v).ownBlock = some k → Cb g y L k) ∧ Ks (Ow g y) W w' ∧ Ph w0 w' g c y' (L.eraseIdx i) b me mb lf pd z B now ∧ (∀ k, Cb g y' (L.eraseIdx i) k → Cb g y L k ∨ W.heap.size ≤ k)
theorem Pq.claim (h : Pq w0 W g c y L b pd z B) (hw : w0.heap.size ≤ W.heap.size) (q : Rq) (Q : List Fd) (hQ : ∀ V, Ks (fun k => k = g) W V → In EFd V (sv q.y) Q) (zQ : Q.length ≤ 1099511627776) (t : Int) (ht : t ≤ 9223372036854775807) :
    Calls Tryd.prog 13 #[.pointer (some ⟨g, 0, none⟩), .agg (rqv q), .int .i64 t] W fun r w' => pcP w0 W w' g (hr c t) y L b c.me c.mb c.lf pd z B c.ck r (B.findIdx? (anK (hr c t).ck c.lf q Q)) := by
  refine (claim_any W g c y L h.ph.cx q Q zQ hQ t ht).mono ?_
  have e : L.findIdx? (anB (hr c t) q Q) = B.findIdx? (anK (hr c t).ck c.lf q Q) := h.rl.find (hr c t) q Q
  rw [e]
  intro r w' hP
  obtain ⟨ko, hko⟩ : ∃ k, B.findIdx? (anK (hr c t).ck c.lf q Q) = k := ⟨_, rfl⟩
  rw [hko] at hP ⊢
  rcases hP with ⟨rfl, rfl, hx, hk⟩ | ⟨i, hi, rfl, rfl, y', hx, hy, hk, hE⟩
  · exact ⟨rfl, hk, h.ph.cop hw hk hx fun k hk => .inl hk⟩
  · have hiB : i < B.length := by have := h.rl.len; omega
    have hre := (h.rl.re i hi hiB).ee
    have hl : ∀ k, Cb g y' (L.eraseIdx i) k → Cb g y L k ∨ W.heap.size ≤ k := fun k hk => .inl (cb_sub hy (fun e he => (List.eraseIdx_sublist _ _).subset he) hk)
    exact ⟨hiB, L[i].ry, y', by rw [hre.rn, hre.rb, hre.st], by have := hE.r; rw [hre.rf] at this; exact this, fun k hk => .inr ⟨L[i], List.getElem_mem _, .inr (.inr hk)⟩, hk, h.ph.cop hw hk hx hl, hl⟩
def erO (L : List En) : Option Nat → List En
  | none => L
  | some i => L.eraseIdx i
def rcQ (w' : World) (B : List Kn) (r : Ending) : Option Nat → Prop
  | none => r = .returned (.tuple #[.agg #[.int .i64 0, .slice none 0 0, .string ⟨#[]⟩], .int .i64 0, .bool false])
  | some i => ∃ hi : i < B.length, r = .returned (.tuple #[.agg (rsv B[i].rn (sv B[i].ry) B[i].rb), .int .i64 B[i].st, .bool true]) ∧ R EFd w' (sv B[i].ry) B[i].fr
theorem Pq.rclaim {W0 : World} (h : Pq w0 W0 g c y L b pd z B) (hw : w0.heap.size ≤ W.heap.size) (q : Rq) (Q : List Fd) (hQ : ∀ V, Ks (fun k => k = b) W V → In EFd V (sv q.y) Q) (zQ : Q.length ≤ 1099511627776) (t : Int) (ht : t ≤ 9223372036854775807) (ko : Option Nat) (hko : B.findIdx? (anK (hr c t).ck c.lf q Q) = ko) (hp : Ph w0 W g (hr c t) y' L' b c.me c.mb c.lf pd z B c.ck) (hL : L' = erO L ko) :
    Calls Tryd.prog 50 #[.pointer (some ⟨b, 0, none⟩), .agg (rqv q), .int .i64 t] W fun r w' => Ks (fun k => k = b) W w' ∧ ∃ (z' : SV) (B' : List Kn), Pq w0 w' g (hr c t) y' L' b pd z' B' ∧ (∀ k, Rb b z' B' k → Rb b z B k ∨ W.heap.size ≤ k) ∧ rcQ w' B r ko := by
  refine (rclaim_any refN refM W b c.me c.mb c.lf pd z B c.ck hp.rc q Q hQ zQ t ht h.ar h.ph.cx.ok.ck h.kv h.len).mono ?_
  have e : B.findIdx? (anK (max c.ck t) c.lf q Q) = ko := hko
  rw [e]
  intro r w' hP
  subst hL
  cases ko with
  | none =>
    obtain ⟨rfl, hR, hk⟩ := hP
    exact ⟨hk, z, B, ⟨hp.rop hw hk hR fun k hk => .inl hk, h.rl, h.kv⟩, fun k hk => .inl hk, rfl⟩
  | some i =>
    obtain ⟨hi, rfl, z', hR, hk, hz, hf⟩ := hP
    have hl : ∀ k, Rb b z' (B.eraseIdx i) k → Rb b z B k ∨ W.heap.size ≤ k := fun k hk' => by
      rcases hk' with rfl | hk' | ⟨x, hx, hk'⟩
      · exact .inl (.inl rfl)
      · exact .inr (hz k hk')
      · exact .inl (.inr (.inr ⟨x, List.mem_of_mem_eraseIdx hx, hk'⟩))
    exact ⟨hk, z', B.eraseIdx i, ⟨hp.rop hw hk hR hl, h.rl.erase i, fun k hk' => h.kv k (List.mem_of_mem_eraseIdx hk')⟩, hl, hi, rfl, hf⟩
/-- Store of the cache -/
theorem Pq.store (h : Pq w0 W g c y L b pd z B) (hw : w0.heap.size ≤ W.heap.size) (q : Rq) (Q : List Fd) (n : Int) (ry : SV) (rb : ByteArray) (fr : List Fd) (st t : Int) (ht : t ≤ 9223372036854775807) (hQ : ∀ V, Ks (Ow g y) W V → In EFd V (sv q.y) Q) (hR : ∀ V, Ks (Ow g y) W V → In EFd V (sv ry) fr) (az : Az q Q rb fr) :
    Calls Tryd.prog 11 #[.pointer (some ⟨g, 0, none⟩), .agg (rqv q), .agg (rsv n (sv ry) rb), .int .i64 st, .int .i64 t] W fun r w' => ∃ (gs y' : SV) (L' : List En), r = .returned (.tuple #[.bool (!noB (hr c t) rb fr), sv gs]) ∧ Ks (Ow g y) W w' ∧ (∀ k, (sv gs).ownBlock = some k → W.heap.size ≤ k) ∧ Ph w0 w' g (hr c t) y' L' b c.me c.mb c.lf pd z B c.ck ∧ (∀ k, Cb g y' L' k → Cb g y L k ∨ W.heap.size ≤ k) ∧
      (noB (hr c t) rb fr = true → L' = L.dropWhile (exB (hr c t)) ∧ R EI w' (sv gs) ((L.takeWhile (exB (hr c t))).map (·.st))) ∧
      (noB (hr c t) rb fr = false → R EI w' (sv gs) ((L.takeWhile (exB (hr c t))).map (·.st) ++ (evD (hr c t) (rb.size + szL fr) (L.dropWhile (exB (hr c t)))).map (·.st)) ∧ ∃ e, L' = evL (hr c t) (rb.size + szL fr) (L.dropWhile (exB (hr c t))) ++ [e] ∧ ∀ yq yr : SV, Ee e q Q n rb fr st (hr c t).ck) := by
  refine (store_any W g c y L h.ph.cx q Q n ry rb fr st t ht hQ hR az.zq az.zQ az.zQf az.zb az.zR az.zRf (by have := az.zS; omega) az.zN).mono ?_
  rintro r w' (⟨hno, gs, rfl, hT⟩ | ⟨hno, gs, y1, y2, y3, y', rfl, hx, hy', hk, hgs, hgw, hn⟩)
  · obtain ⟨y', hx, hy⟩ := hT.cx
    have hl : ∀ k, Cb g y' (L.dropWhile (exB (hr c t))) k → Cb g y L k ∨ W.heap.size ≤ k := fun k hk => .inl (cb_sub hy (fun e he => (List.dropWhile_sublist _).subset he) hk)
    exact ⟨gs, y', _, by rw [hno]; rfl, hT.ks, hT.new, h.ph.cop hw hT.ks hx hl, hl, fun _ => ⟨rfl, hT.gone⟩, fun e => by rw [hno] at e; cases e⟩
  · have hl : ∀ k, Cb g y' (evL (hr c t) (rb.size + szL fr) (L.dropWhile (exB (hr c t))) ++ [stE (hr c t) q Q n rb fr st y1 y2 y3]) k → Cb g y L k ∨ W.heap.size ≤ k := fun k hk' => by
      rcases hk' with (rfl | hk') | ⟨e, he, hk'⟩
      · exact .inl (.inl (.inl rfl))
      · exact (hy' k hk').elim (fun e => .inl (.inl (.inr e))) .inr
      · rcases List.mem_append.1 he with he | he
        · refine .inl (.inr ⟨e, (List.dropWhile_sublist _).subset (?_ : e ∈ L.dropWhile (exB (hr c t))), hk'⟩)
          have := ev_app (hr c t) (rb.size + szL fr) (L.dropWhile (exB (hr c t)))
          rw [← this]
          exact List.mem_append_right _ he
        · rw [List.mem_singleton.1 he] at hk'
          exact .inr (hn k hk')
    exact ⟨gs, y', _, by rw [hno]; rfl, hk, hgw, h.ph.cop hw hk hx hl, hl, (fun e => by rw [hno] at e; cases e), fun _ => ⟨hgs, _, rfl, fun _ _ => ⟨rfl, rfl, rfl, rfl, rfl, rfl, rfl, rfl, rfl⟩⟩⟩
end Go.Proofs.YtfponcdhaefkdaaDoor
/- A cache and the document's: Store of the document's; the two made. -/
namespace Go.Proofs.YtfponcdhaefkdaaDoor
open Go.RowKit
set_option linter.unusedVariables false
set_option linter.unusedSimpArgs false
variable {w0 W W' : World} {g : Nat} {c c' : Ca} {y y' : SV} {L L' : List En} {b : Nat} {me mb lf pd : Int} {z z' : SV} {B B' : List Kn} {now now' : Int}
theorem Pq.rstore {W0 : World} (h : Pq w0 W0 g c y L b pd z B) (hw : w0.heap.size ≤ W.heap.size) (q qp : Rq) (hd : hdL qp = hdL q) (Q : List Fd) (n : Int) (ry : SV) (rb : ByteArray) (fr : List Fd) (st t : Int) (ht : t ≤ 9223372036854775807) (hQ : ∀ V, Ks (fun k => k = b) W V → In EFd V (sv q.y) Q) (hR : ∀ V, Ks (fun k => k = b) W V → In EFd V (sv ry) fr) (az : Az q Q rb fr) (zv : ∀ v ∈ vsL fr varyS, v.size ≤ 140737488351232)
    (hp : Ph w0 W g (hr c t) y' L' b c.me c.mb c.lf pd z B c.ck) (hno : noB (hr c t) rb fr = true → L' = L.dropWhile (exB (hr c t))) (hyes : noB (hr c t) rb fr = false → ∃ e, L' = evL (hr c t) (rb.size + szL fr) (L.dropWhile (exB (hr c t))) ++ [e] ∧ Ee e qp Q n rb fr st (hr c t).ck) :
    Calls Tryd.prog 72 #[.pointer (some ⟨b, 0, none⟩), .agg (rqv q), .agg (rsv n (sv ry) rb), .int .i64 st, .int .i64 t] W fun r w' => ∃ (gs z' : SV) (B' : List Kn), r = .returned (.tuple #[.bool (!noB (hr c t) rb fr), sv gs]) ∧ Ks (fun k => k = b) W w' ∧ Pq w0 w' g (hr c t) y' L' b pd z' B' ∧ (∀ k, Rb b z' B' k → Rb b z B k ∨ W.heap.size ≤ k) ∧
      (noB (hr c t) rb fr = true → R EI w' (sv gs) ((L.takeWhile (exB (hr c t))).map (·.st))) ∧
      (noB (hr c t) rb fr = false → R EI w' (sv gs) ((L.takeWhile (exB (hr c t))).map (·.st) ++ (evD (hr c t) (rb.size + szL fr) (L.dropWhile (exB (hr c t)))).map (·.st))) := by
  refine (rstore_any refN W b c.me c.mb c.lf pd z B c.ck hp.rc q Q n ry rb fr st t hQ hR az.zQ az.zR zv az.zN az.zS ht h.ar h.ph.cx.ok.ck h.len h.tot h.ph.cx.ok.me h.ph.cx.ok.mb).mono ?_
  obtain ⟨f1, f2⟩ := h.rl.filt h.ph.cx.ok.up (hr c t)
  obtain ⟨v1, v2⟩ := f2.ev (hr c t) (rb.size + szL fr)
  have hnn : noK c.me c.mb rb fr = noB (hr c t) rb fr := rfl
  have hkf : ∀ k ∈ B.filter (fun k => !exK (hr c t).ck c.lf k), Kv k := fun k hk => h.kv k (List.mem_filter.1 hk).1
  have hsub : ∀ (me mb : Int) (zz : Nat) (l : List Kn), ∀ k ∈ ekL me mb zz l, k ∈ l := fun me mb zz l => by
    induction l with
    | nil => intro k hk; exact hk
    | cons x l ih =>
      intro k hk
      unfold ekL at hk
      split at hk
      · exact List.mem_cons_of_mem _ (ih k hk)
      · exact hk
  rintro r w' (⟨h0, gs, sy, rfl, hRc, hg, hk, hgn, hsn⟩ | ⟨h0, gs, sy, yq, yr, rfl, hRc, hg, hk, hgn, hsn, hqn, hrn⟩)
  · rw [hnn] at h0
    have hL := hno h0
    subst hL
    have hl : ∀ k, Rb b sy (B.filter fun k => !exK (hr c t).ck c.lf k) k → Rb b z B k ∨ W.heap.size ≤ k := fun k hk' => by
      rcases hk' with rfl | hk' | ⟨x, hx, hk'⟩
      · exact .inl (.inl rfl)
      · exact .inr (hsn k hk')
      · exact .inl (.inr (.inr ⟨x, (List.mem_filter.1 hx).1, hk'⟩))
    exact ⟨gs, sy, _, by rw [h0]; rfl, hk, ⟨hp.rop hw hk hRc hl, f2, hkf⟩, hl, fun _ => by rw [f1]; exact hg, fun e => by rw [h0] at e; cases e⟩
  · rw [hnn] at h0
    obtain ⟨e, hL, hE⟩ := hyes h0
    subst hL
    have hst : starB fr = false := by
      have h1 := h0
      unfold noB at h1
      rw [Bool.or_eq_false_iff] at h1
      exact h1.1
    have hkz : Kz ⟨st, max c.ck t, ⟨q.m, q.s, q.a, q.p, yq, q.b⟩, n, yr, rb, Q, fr⟩ := ⟨az.zQ, az.zR, fun v hv => by have := zv v hv; omega, az.zN, hst⟩
    have hl : ∀ k, Rb b sy (ekL c.me c.mb (rb.size + szL fr) (B.filter fun k => !exK (max c.ck t) c.lf k) ++ [⟨st, max c.ck t, ⟨q.m, q.s, q.a, q.p, yq, q.b⟩, n, yr, rb, Q, fr⟩]) k → Rb b z B k ∨ W.heap.size ≤ k := fun k hk' => by
      rcases hk' with rfl | hk' | ⟨x, hx, hk'⟩
      · exact .inl (.inl rfl)
      · exact .inr (hsn k hk')
      · rcases List.mem_append.1 hx with hx | hx
        · exact .inl (.inr (.inr ⟨x, (List.mem_filter.1 (hsub _ _ _ _ x hx)).1, hk'⟩))
        · rw [List.mem_singleton.1 hx] at hk'
          exact .inr (hk'.elim (hqn k) (hrn k))
    refine ⟨gs, sy, _, by rw [h0]; rfl, hk, ⟨hp.rop hw hk hRc hl, v2.app ⟨⟨hE.st, hE.ar, hE.rn, hE.rb, hE.rf, hE.sz, hE.hd.trans hd, hE.fq, hE.nm⟩, hkz⟩, fun k hk' => ?_⟩, hl, (fun e => by rw [h0] at e; cases e), fun _ => by rw [f1, v1]; exact hg⟩
    rcases List.mem_append.1 hk' with hk' | hk'
    · exact hkf k (hsub _ _ _ _ k hk')
    · rw [List.mem_singleton.1 hk']
      exact ⟨az.zQ, zv, az.zN⟩
/-- the two, just made -/
theorem Pq.new {a bb cc dd : Int} (hg : W.heap[g]? = some (.cells #[.int .i64 a, .int .i64 bb, .int .i64 cc, .int .i64 0, .slice none 0 0] 83 (0, 0))) (hb : W.heap[b]? = some (.cells #[.int .i64 a, .int .i64 bb, .int .i64 cc, .int .i64 dd, .slice none 0 0, .int .i64 0] 100 (0, 0))) (ha : 0 ≤ a ∧ a ≤ 64) (h2 : 0 ≤ bb ∧ bb ≤ 1152921504606846976) (h3 : 0 ≤ cc ∧ cc ≤ 1152921504606846976) (n1 : w0.heap.size ≤ g) (n2 : w0.heap.size ≤ b) : Pq w0 W g ⟨a, bb, cc, 0⟩ (none, 0, 0) [] b dd (none, 0, 0) [] := by
  have hne : g ≠ b := ty_ne hg hb (by decide)
  have hCb : ∀ k, Cb g (none, 0, 0) [] k → k = g := fun k hk => by
    rcases hk with (h | h) | ⟨e, he, _⟩
    · exact h
    · simp [sv, Value.ownBlock] at h
    · simp at he
  have hRb : ∀ k, Rb b (none, 0, 0) [] k → k = b := fun k hk => by
    rcases hk with h | h | ⟨e, he, _⟩
    · exact h
    · simp [sv, Value.ownBlock] at h
    · simp at he
  exact ⟨⟨Cx.new hg ha h2 h3, ⟨hb, R.nil EV _, fun k hk => (by simp at hk)⟩, fun k h1 h2 => hne ((hCb k h1).symm.trans (hRb k h2)), fun k hk => hk.elim (fun e => by rw [hCb k e]; exact n1) (fun e => by rw [hRb k e]; exact n2)⟩, Rl.nil, fun k hk => (by simp at hk)⟩
end Go.Proofs.YtfponcdhaefkdaaDoor
