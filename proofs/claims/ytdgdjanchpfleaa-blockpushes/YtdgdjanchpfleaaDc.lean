/- BlockPushes: all four joiners. -/
import Derived.Test.YtdgdjanchpfleaaDb
namespace Go.Proofs.Ytdgdjanchpfleaa
open Go.RowKit
set_option linter.unusedVariables false
set_option linter.unusedSimpArgs false

theorem ty_ne {w : World} {k k' : Nat} {c c' : Array Value} {t t' : TypeId} (h : w.heap[k]? = some (.cells c t (0, 0))) (h' : w.heap[k']? = some (.cells c' t' (0, 0))) (ht : t ≠ t') : k ≠ k' := by
  rintro rfl
  rw [h] at h'
  injection h' with h'
  injection h' with _ e
  exact ht e

/-- what the document's push leaves alone -/
theorem RuR.keep {w w' : World} {v0 : Value} {b : Nat} {L L0 : List (Fr × SV)} {c c0 : Int} (h : RuR w v0 w' b L c) (hb : RB w b v0 c0) (hr : R EF w v0 L0) {k : Nat} {cs : Array Value} {t : TypeId} (hk : w.heap[k]? = some (.cells cs t (0, 0))) (h1 : t ≠ 60) (h2 : t ≠ 24 ∨ v0.ownBlock ≠ some k) : w'.heap[k]? = some (.cells cs t (0, 0)) := by
  refine (h.ks.block k (heap_lt hk) fun e => ?_).trans hk
  rcases e with e | e
  · exact ty_ne hk hb h1 e
  · rcases h2 with h2 | h2
    · obtain ⟨c', hc⟩ := hr.ty k e
      exact ty_ne hk hc h2 rfl
    · exact h2 e
theorem RuR.bel {w w' : World} {v0 : Value} {b : Nat} {L : List (Fr × SV)} {c : Int} (h : RuR w v0 w' b L c) (B : Nat) (hB : B ≤ w.heap.size) (hb : B ≤ b) (ho : ∀ k, v0.ownBlock = some k → B ≤ k) : Below B w w' :=
  h.ks.below hB fun i hi e => by
    rcases e with e | e
    · omega
    · have := ho i e
      omega

/-- Two joiners of the program's, two of the document's, all made since w. -/
structure Pp (w wr : World) (a b x y : Nat) (sa sb vx vy : Value) (sta stb sdx sdy : Js) (Lx Ly : List (Fr × SV)) : Prop where
  T : Tw w wr a b sa sb sta stb
  rx : RB wr x vx sdx.code
  fx : R EF wr vx Lx
  ry : RB wr y vy sdy.code
  fy : R EF wr vy Ly
  lx : w.heap.size ≤ x
  ly : w.heap.size ≤ y
  nxy : x ≠ y
  ox : ∀ k, vx.ownBlock = some k → w.heap.size ≤ k
  oy : ∀ k, vy.ownBlock = some k → w.heap.size ≤ k
  on : ∀ k, vx.ownBlock = some k → vy.ownBlock ≠ some k
  sx : Sm sdx Lx sdx.code
  sy : Sm sdy Ly sdy.code
  px : Fp wr sdx Lx
  py : Fp wr sdy Ly
variable {w wr w' : World} {a b x y : Nat} {sa sb vx vy : Value} {sta stb sdx sdy st' : Js} {Lx Ly L' : List (Fr × SV)}
theorem Pp.below (P : Pp w wr a b x y sa sb vx vy sta stb sdx sdy Lx Ly) (hb : Below wr.heap.size wr w') : Pp w w' a b x y sa sb vx vy sta stb sdx sdy Lx Ly :=
  ⟨P.T.below hb, P.rx.below hb, P.fx.below hb, P.ry.below hb, P.fy.below hb, P.lx, P.ly, P.nxy, P.ox, P.oy, P.on, P.sx, P.sy, P.px.stays fun k c hc => hb.block k (heap_lt hc), P.py.stays fun k c hc => hb.block k (heap_lt hc)⟩
theorem Pp.swap (P : Pp w wr a b x y sa sb vx vy sta stb sdx sdy Lx Ly) : Pp w wr b a y x sb sa vy vx stb sta sdy sdx Ly Lx :=
  ⟨P.T.swap, P.ry, P.fy, P.rx, P.fx, P.ly, P.lx, P.nxy.symm, P.oy, P.ox, fun k h1 h2 => P.on k h2 h1, P.sy, P.sx, P.py, P.px⟩
theorem R.keeps {α : Type} {E : El α} {w w' : World} {v : Value} {l : List α} (h : R E w v l) (hk : ∀ (k : Nat) (c : Array Value), w.heap[k]? = some (Obj.cells c E.e (0, 0)) → v.ownBlock = some k → w'.heap[k]? = some (.cells c E.e (0, 0))) : R E w' v l :=
  h.stays fun k hk' _ => by
    obtain ⟨c, hc⟩ := h.ty k hk'
    rw [hc]
    exact hk k c hc hk'
/-- the program's first one pushed -/
theorem Pp.pushp (P : Pp w wr a b x y sa sb vx vy sta stb sdx sdy Lx Ly) {z : SV} {qs : List (Int × Int)} (hp : PuR wr sa w' a st' z qs) : ∃ sa', Pp w w' a b x y sa' sb vx vy st' stb sdx sdy Lx Ly := by
  obtain ⟨sa', T'⟩ := P.T.push1 hp
  have kp : ∀ {k : Nat} {c : Array Value} {t : TypeId}, wr.heap[k]? = some (Obj.cells c t (0, 0)) → t ≠ 51 → t ≠ 5 → w'.heap[k]? = some (.cells c t (0, 0)) := fun hk h1 h2 => P.T.keep1 hp hk h1 h2
  exact ⟨sa', T', kp P.rx (by decide) (by decide), P.fx.keeps fun k c hc _ => kp hc (by decide) (by decide), kp P.ry (by decide) (by decide), P.fy.keeps fun k c hc _ => kp hc (by decide) (by decide), P.lx, P.ly, P.nxy, P.ox, P.oy, P.on, P.sx, P.sy, P.px.stays fun k c hc => (kp hc (by decide) (by decide)).trans hc.symm, P.py.stays fun k c hc => (kp hc (by decide) (by decide)).trans hc.symm⟩
/-- the document's first one pushed -/
theorem Pp.pushd (P : Pp w wr a b x y sa sb vx vy sta stb sdx sdy Lx Ly) (hp : RuR wr vx w' x L' st'.code) (hs : Sm st' L' st'.code) (hF : Fp w' sdx Lx → Fp w' st' L') : ∃ vx', Pp w w' a b x y sa sb vx' vy sta stb st' sdy L' Ly := by
  have kp : ∀ {k : Nat} {c : Array Value} {t : TypeId}, wr.heap[k]? = some (Obj.cells c t (0, 0)) → t ≠ 60 → t ≠ 24 ∨ vx.ownBlock ≠ some k → w'.heap[k]? = some (.cells c t (0, 0)) := fun hk h1 h2 => hp.keep P.rx P.fx hk h1 h2
  obtain ⟨vx', r1, r2, r3⟩ := hp.ex
  have hbel := hp.bel w.heap.size P.T.bel.size P.lx P.ox
  have kj : ∀ k, k < wr.heap.size → ∀ (bb : Nat) (ss : Value) (st : Js), Jn wr bb ss st → (k = bb ∨ ss.ownBlock = some k ∨ ∃ c, wr.heap[k]? = some (.cells c 45 (0, 0))) → w'.heap[k]? = wr.heap[k]? := fun k hk bb ss st hj hh => by
    rcases hh with rfl | e | ⟨c, hc⟩
    · obtain ⟨c, hc⟩ := hj.bty
      exact (kp hc (by decide) (.inl (by decide))).trans hc.symm
    · obtain ⟨c, hc⟩ := hj.sty k e
      exact (kp hc (by decide) (.inl (by decide))).trans hc.symm
    · exact (kp hc (by decide) (.inl (by decide))).trans hc.symm
  have ky : RB w' y vy sdy.code := (hp.ks.block y P.ry.lt fun e => by
    rcases e with e | e
    · exact P.nxy e.symm
    · exact own_ne P.fx P.ry (by decide) y e rfl).trans P.ry
  refine ⟨vx', ⟨P.T.bel.trans hbel, P.T.j1.stays fun k hk hh => kj k hk _ _ _ P.T.j1 hh, P.T.j2.stays fun k hk hh => kj k hk _ _ _ P.T.j2 hh, P.T.l1, P.T.l2, P.T.ne, P.T.o1, P.T.o2, P.T.on⟩, r1, r2, ky, P.fy.keeps fun k c hc ho => kp hc (by decide) (.inr fun e => P.on k e ho), P.lx, P.ly, P.nxy, fun k hk => ?_, P.oy, fun k hk h2 => ?_, hs, P.sy, hF (P.px.stays fun k c hc => (kp hc (by decide) (.inl (by decide))).trans hc.symm), P.py.stays fun k c hc => (kp hc (by decide) (.inl (by decide))).trans hc.symm⟩
  · rcases r3 k hk with e | e
    · exact P.ox k e
    · exact Nat.le_trans P.T.bel.size e
  · rcases r3 k hk with e | e
    · exact P.on k e h2
    · have := P.fy.lt k h2
      omega

/-- a frame of a list that was handed in -/
theorem arg_frame {w : World} {base : Option Addr} {n cap : Nat} {l : List ((Fr × SV) × List (Int × Int))} (hI : In EF w (.slice base n cap) (l.map (·.1))) (i : Nat) (hi : i < l.length) : ∃ B off, base = some ⟨B, off, none⟩ ∧ n = l.length ∧ ∀ W, Below w.heap.size w W →
    W.cell? ⟨B, off + i * 11, none⟩ = some (.int .i64 l[i].1.1.ty) ∧ W.cell? ⟨B, off + i * 11 + 1, none⟩ = some (.int .i64 l[i].1.1.fl) ∧ W.cell? ⟨B, off + i * 11 + 2, none⟩ = some (.int .i64 l[i].1.1.st) ∧ W.cell? ⟨B, off + i * 11 + 3, none⟩ = some (.string l[i].1.1.data) ∧ W.cell? ⟨B, off + i * 11 + 4, none⟩ = some (.int .i64 l[i].1.1.pad) ∧ W.cell? ⟨B, off + i * 11 + 5, none⟩ = some (.int .i64 l[i].1.1.dep) ∧
    W.cell? ⟨B, off + i * 11 + 6, none⟩ = some (.bool l[i].1.1.excl) ∧ W.cell? ⟨B, off + i * 11 + 7, none⟩ = some (.int .i64 l[i].1.1.wt) ∧ W.cell? ⟨B, off + i * 11 + 8, none⟩ = some (.int .i64 l[i].1.1.code) ∧ W.cell? ⟨B, off + i * 11 + 9, none⟩ = some (.int .i64 l[i].1.1.last) ∧ W.cell? ⟨B, off + i * 11 + 10, none⟩ = some (sv l[i].1.2) := by
  obtain ⟨B, off, cap', e, hB, d⟩ := hI.get okF i (by simpa using hi)
  injection e with e1 e2 e3
  rw [List.length_map] at e2
  rw [List.getElem_map] at d
  refine ⟨B, off, e1, e2, fun W hb => ?_⟩
  have g : ∀ k u, (EF.enc l[i].1)[k]? = some u → W.cell? ⟨B, off + i * 11 + k, none⟩ = some u := fun k u hu => (hb.cell hB).trans (d k u hu)
  exact ⟨g 0 _ rfl, g 1 _ rfl, g 2 _ rfl, g 3 _ rfl, g 4 _ rfl, g 5 _ rfl, g 6 _ rfl, g 7 _ rfl, g 8 _ rfl, g 9 _ rfl, g 10 _ rfl⟩
/-- behind the document's push: its params, and all four -/
theorem Pp.pushd2 (P : Pp w wr a b x y sa sb vx vy sta stb sdx sdy Lx Ly) (hp : RuR wr vx w' x L' st'.code) (hs : Sm st' L' st'.code) {z p : SV} {qs ps : List (Int × Int)} (hF : ∀ W, Fp W sdx Lx → R EP W (sv p) ps → R EP W (sv z) qs ∧ Fp W st' L') (hr : R EP wr (sv p) ps) : R EP w' (sv z) qs ∧ ∃ vx', Pp w w' a b x y sa sb vx' vy sta stb st' sdy L' Ly := by
  have kp : ∀ {k : Nat} {c : Array Value}, wr.heap[k]? = some (Obj.cells c 45 (0, 0)) → w'.heap[k]? = some (.cells c 45 (0, 0)) := fun hk => hp.keep P.rx P.fx hk (by decide) (.inl (by decide))
  have hr' : R EP w' (sv p) ps := hr.keeps fun k c hc _ => kp hc
  have hx : Fp w' sdx Lx := P.px.stays fun k c hc => (kp hc).trans hc.symm
  exact ⟨(hF w' hx hr').1, P.pushd hp hs fun h => (hF w' h hr').2⟩
theorem Pp.start {w w1 w2 w3 w4 w5 : World} (j1 : Jn w1 w.heap.size (.slice none 0 0) .idle) (b1 : Below w.heap.size w w1) (j2 : Jn w2 w1.heap.size (.slice none 0 0) .idle) (b2 : Below w1.heap.size w1 w2) (b3 : Below w2.heap.size w2 w3) (r4 : RB w4 w3.heap.size (.slice none 0 0) 0) (b4 : Below w3.heap.size w3 w4) (r5 : RB w5 w4.heap.size (.slice none 0 0) 0) (b5 : Below w4.heap.size w4 w5) :
    Pp w w5 w.heap.size w1.heap.size w3.heap.size w4.heap.size (.slice none 0 0) (.slice none 0 0) (.slice none 0 0) (.slice none 0 0) .idle .idle .idle .idle [] [] := by
  have T := Tw.two (Below.refl _ w) j1 b1 j2 b2
  have T5 := ((T.below b3).below b4).below b5
  have s1 := b1.size
  have s2 := b2.size
  have s3 := b3.size
  have s4 := r4.lt
  exact ⟨T5, r4.below b5, R.nil _ _, r5, R.nil _ _, by omega, by omega, by omega, fun k hk => by simp [Value.ownBlock] at hk, fun k hk => by simp [Value.ownBlock] at hk, fun k hk => by simp [Value.ownBlock] at hk, ⟨rfl, rfl⟩, ⟨rfl, rfl⟩, trivial, trivial⟩
end Go.Proofs.Ytdgdjanchpfleaa
