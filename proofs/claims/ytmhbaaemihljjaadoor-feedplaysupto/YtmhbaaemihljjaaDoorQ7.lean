/- FeedPlays: the walk. -/
import Derived.Test.YtmhbaaemihljjaaDoorQ6
import Derived.Deep.RegionHeld3
namespace Go.Proofs.YtmhbaaemihljjaaDoor
open Go.RowKit
set_option linter.unusedVariables false
set_option linter.unusedSimpArgs false

/-- while the feeds are made -/
structure P0 (w W : World) (b0 b1 : Bool) (m0 m1 : Int) (a7 a8 : Nat) (fs : List Fed) (l0 l1 r0 r1 : Value) (hs : List (Nat × Rs)) : Prop where
  all : All w W fs
  b3 : W.heap[w.heap.size]? = some (.cells #[.bool b0, .bool b1] 57 (0, 0))
  b4 : W.heap[w.heap.size + 1]? = some (.cells #[.int .i64 m0, .int .i64 m1] 58 (0, 0))
  l : W.heap[a7]? = some (.cells #[l0, l1] 60 (0, 0))
  r : W.heap[a8]? = some (.cells #[r0, r1] 62 (0, 0))
  rf : ∀ x ∈ hs, RF W x.1 x.2 ∧ w.heap.size ≤ x.1
  ne : hs.Pairwise fun x y => x.1 ≠ y.1
  n7 : w.heap.size ≤ a7
  n8 : w.heap.size ≤ a8
theorem P0.kt {w W W' : World} {b0 b1 : Bool} {m0 m1 : Int} {a7 a8 : Nat} {fs fs' : List Fed} {l0 l1 r0 r1 : Value} {hs : List (Nat × Rs)} (h : P0 w W b0 b1 m0 m1 a7 a8 fs l0 l1 r0 r1 hs) (hA : All w W' fs') (hk : Kt W W') : P0 w W' b0 b1 m0 m1 a7 a8 fs' l0 l1 r0 r1 hs :=
  ⟨hA, hk _ _ _ h.b3 (by decide) (by decide), hk _ _ _ h.b4 (by decide) (by decide), hk _ _ _ h.l (by decide) (by decide), hk _ _ _ h.r (by decide) (by decide), fun x hx => ⟨hk _ _ _ (h.rf x hx).1 (by decide) (by decide), (h.rf x hx).2⟩, h.ne, h.n7, h.n8⟩
theorem P0.drew {w W : World} {b0 b1 : Bool} {m0 m1 : Int} {a7 a8 : Nat} {fs : List Fed} {l0 l1 r0 r1 : Value} {hs : List (Nat × Rs)} (h : P0 w W b0 b1 m0 m1 a7 a8 fs l0 l1 r0 r1 hs) : P0 w W.drew b0 b1 m0 m1 a7 a8 fs l0 l1 r0 r1 hs := h.kt h.all.drew (Kt.below (Below.refl _ W).drew)
theorem P0.rnew {w W W' : World} {b0 b1 : Bool} {m0 m1 : Int} {a7 a8 : Nat} {fs : List Fed} {l0 l1 r0 r1 : Value} {hs : List (Nat × Rs)} (h : P0 w W b0 b1 m0 m1 a7 a8 fs l0 l1 r0 r1 hs) {R : Rs} (hR : RF W' W.heap.size R) (hb : Below W.heap.size W W') : P0 w W' b0 b1 m0 m1 a7 a8 fs l0 l1 r0 r1 (hs ++ [(W.heap.size, R)]) := by
  have h' := h.kt (h.all.later hb) (Kt.below hb)
  refine ⟨h'.all, h'.b3, h'.b4, h'.l, h'.r, fun x hx => ?_, List.pairwise_append.2 ⟨h.ne, List.pairwise_singleton _ _, fun x hx y hy => ?_⟩, h.n7, h.n8⟩
  · rcases List.mem_append.1 hx with hx | hx
    · exact h'.rf x hx
    · obtain rfl := List.mem_singleton.1 hx
      exact ⟨hR, h.all.bel.size⟩
  · obtain rfl := List.mem_singleton.1 hy
    have := (h.rf x hx).1.lt
    show x.1 ≠ W.heap.size
    omega
theorem P0.setl {w W : World} {b0 b1 : Bool} {m0 m1 : Int} {a7 a8 : Nat} {fs : List Fed} {l0 l1 r0 r1 : Value} {hs : List (Nat × Rs)} (h : P0 w W b0 b1 m0 m1 a7 a8 fs l0 l1 r0 r1 hs) (i : Nat) (v l0' l1' : Value) (hv : (#[l0, l1] : Array Value).setIfInBounds i v = #[l0', l1']) : P0 w (W.setCell ⟨a7, i, none⟩ v) b0 b1 m0 m1 a7 a8 fs l0' l1' r0 r1 hs := by
  have ho : ∀ (k : Nat) (cs : Array Value) (t : TypeId), W.heap[k]? = some (.cells cs t (0, 0)) → t ≠ 60 → (W.setCell ⟨a7, i, none⟩ v).heap[k]? = some (.cells cs t (0, 0)) := fun k cs t hc ht => by
    refine (setCell_other _ _ _ _ _ fun e => ?_).trans hc
    rw [e, h.l] at hc
    simp at hc
    exact ht hc.2.symm
  refine ⟨h.all.sets a7 _ 60 h.l (by decide) (by decide) h.n7 [(i, v)], ho _ _ _ h.b3 (by decide), ho _ _ _ h.b4 (by decide), ?_, ho _ _ _ h.r (by decide), fun x hx => ⟨ho _ _ _ (h.rf x hx).1 (by decide), (h.rf x hx).2⟩, h.ne, h.n7, h.n8⟩
  rw [setCell_block _ _ _ _ _ _ _ h.l, hv]
theorem P0.setr {w W : World} {b0 b1 : Bool} {m0 m1 : Int} {a7 a8 : Nat} {fs : List Fed} {l0 l1 r0 r1 : Value} {hs : List (Nat × Rs)} (h : P0 w W b0 b1 m0 m1 a7 a8 fs l0 l1 r0 r1 hs) (i : Nat) (v r0' r1' : Value) (hv : (#[r0, r1] : Array Value).setIfInBounds i v = #[r0', r1']) : P0 w (W.setCell ⟨a8, i, none⟩ v) b0 b1 m0 m1 a7 a8 fs l0 l1 r0' r1' hs := by
  have ho : ∀ (k : Nat) (cs : Array Value) (t : TypeId), W.heap[k]? = some (.cells cs t (0, 0)) → t ≠ 62 → (W.setCell ⟨a8, i, none⟩ v).heap[k]? = some (.cells cs t (0, 0)) := fun k cs t hc ht => by
    refine (setCell_other _ _ _ _ _ fun e => ?_).trans hc
    rw [e, h.r] at hc
    simp at hc
    exact ht hc.2.symm
  refine ⟨h.all.sets a8 _ 62 h.r (by decide) (by decide) h.n8 [(i, v)], ho _ _ _ h.b3 (by decide), ho _ _ _ h.b4 (by decide), ho _ _ _ h.l (by decide), ?_, fun x hx => ⟨ho _ _ _ (h.rf x hx).1 (by decide), (h.rf x hx).2⟩, h.ne, h.n7, h.n8⟩
  rw [setCell_block _ _ _ _ _ _ _ h.r, hv]
/-- all four are made -/
theorem P0.pl {w W : World} {b0 b1 : Bool} {m0 m1 : Int} {a7 a8 g0 g1 h0 h1 : Nat} (h : P0 w W b0 b1 m0 m1 a7 a8 [(g0, .slice none 0 0, ⟨if b0 then prefaceB else ⟨#[]⟩, [], m0, 0⟩), (g1, .slice none 0 0, ⟨if b1 then prefaceB else ⟨#[]⟩, [], m1, 0⟩)] (.pointer (some ⟨g0, 0, none⟩)) (.pointer (some ⟨g1, 0, none⟩)) (.pointer (some ⟨h0, 0, none⟩)) (.pointer (some ⟨h1, 0, none⟩)) [(h0, ⟨b0, m0, ⟨#[]⟩, 0⟩), (h1, ⟨b1, m1, ⟨#[]⟩, 0⟩)]) :
    ∃ G H V S R, Pl w W a7 a8 G H V S R ∧ ∀ i, i < 2 → (S i).wait.length = 0 := by
  refine ⟨fun i => if i = 0 then g0 else g1, fun i => if i = 0 then h0 else h1, fun _ => .slice none 0 0, fun i => if i = 0 then ⟨if b0 then prefaceB else ⟨#[]⟩, [], m0, 0⟩ else ⟨if b1 then prefaceB else ⟨#[]⟩, [], m1, 0⟩, fun i => if i = 0 then ⟨b0, m0, ⟨#[]⟩, 0⟩ else ⟨b1, m1, ⟨#[]⟩, 0⟩, ⟨h.all, h.l, h.r, fun i hi => ?_, ?_, fun i hi => ?_, fun i hi => ?_⟩, fun i hi => ?_⟩
  · have hc : i = 0 ∨ i = 1 := by omega
    rcases hc with rfl | rfl
    · exact (h.rf _ (.head _)).1
    · exact (h.rf _ (.tail _ (.head _))).1
  · exact (List.pairwise_cons.1 h.ne).1 _ (.head _)
  · have hc : i = 0 ∨ i = 1 := by omega
    rcases hc with rfl | rfl
    · exact (h.rf _ (.head _)).2
    · exact (h.rf _ (.tail _ (.head _))).2
  · have hc : i = 0 ∨ i = 1 := by omega
    rcases hc with rfl | rfl
    · exact rel_new b0 m0
    · exact rel_new b1 m1
  · have hc : i = 0 ∨ i = 1 := by omega
    rcases hc with rfl | rfl <;> rfl
theorem P0.cells0 {w W : World} {b0 b1 : Bool} {m0 m1 : Int} {a7 a8 : Nat} {fs : List Fed} {l0 l1 r0 r1 : Value} {hs : List (Nat × Rs)} (h : P0 w W b0 b1 m0 m1 a7 a8 fs l0 l1 r0 r1 hs) : W.cell? ⟨w.heap.size, 0, none⟩ = some (.bool b0) ∧ W.cell? ⟨w.heap.size + 1, 0, none⟩ = some (.int .i64 m0) :=
  ⟨by rw [cell_of_row _ _ _ _ _ _ h.b3]; rfl, by rw [cell_of_row _ _ _ _ _ _ h.b4]; rfl⟩
theorem P0.cells1 {w W : World} {b0 b1 : Bool} {m0 m1 : Int} {a7 a8 : Nat} {fs : List Fed} {l0 l1 r0 r1 : Value} {hs : List (Nat × Rs)} (h : P0 w W b0 b1 m0 m1 a7 a8 fs l0 l1 r0 r1 hs) : W.cell? ⟨w.heap.size, 1, none⟩ = some (.bool b1) ∧ W.cell? ⟨w.heap.size + 1, 1, none⟩ = some (.int .i64 m1) :=
  ⟨by rw [cell_of_row _ _ _ _ _ _ h.b3]; rfl, by rw [cell_of_row _ _ _ _ _ _ h.b4]; rfl⟩
theorem P0.lr {w W : World} {b0 b1 : Bool} {m0 m1 : Int} {a7 a8 : Nat} {fs : List Fed} {l0 l1 r0 r1 : Value} {hs : List (Nat × Rs)} (h : P0 w W b0 b1 m0 m1 a7 a8 fs l0 l1 r0 r1 hs) : W.cell? ⟨a7, 0, none⟩ = some l0 ∧ W.cell? ⟨a7, 1, none⟩ = some l1 ∧ W.cell? ⟨a8, 0, none⟩ = some r0 ∧ W.cell? ⟨a8, 1, none⟩ = some r1 :=
  ⟨by rw [cell_of_row _ _ _ _ _ _ h.l]; rfl, by rw [cell_of_row _ _ _ _ _ _ h.l]; rfl, by rw [cell_of_row _ _ _ _ _ _ h.r]; rfl, by rw [cell_of_row _ _ _ _ _ _ h.r]; rfl⟩

/-- a step of the script -/
structure OpT where
  kind : Int
  two : Bool
  s : ByteArray
  n : Int
  N : Int
/-- The script in memory. -/
def Opers (W : World) (sa : Option Addr) (l : List OpT) : Prop :=
  ∀ (k : Nat) (hk : k < l.length), ∃ g off, sa = some ⟨g, off, none⟩ ∧ W.cell? ⟨g, off + k * 5, none⟩ = some (.int .i64 l[k].kind) ∧ W.cell? ⟨g, off + k * 5 + 1, none⟩ = some (.bool l[k].two) ∧ W.cell? ⟨g, off + k * 5 + 2, none⟩ = some (.string l[k].s) ∧ W.cell? ⟨g, off + k * 5 + 3, none⟩ = some (.int .i64 l[k].n) ∧ W.cell? ⟨g, off + k * 5 + 4, none⟩ = some (.int .i64 l[k].N)

theorem push_len (S : St) (T : ByteArray) : (pushS S T).wait.length ≤ S.wait.length + T.size := by
  unfold pushS
  split
  · have hl : T.data.toList.length = T.size := by simp
    simp only [List.length_append, hl]
    exact Nat.le_refl _
  · exact Nat.le_add_right _ _
theorem bound_next {S : Nat → St} {j : Nat} (i : Nat) (hi : i < 2) (S2 : St) (hl : S2.wait.length ≤ (S i).wait.length + 1118576) (h : ∀ i, i < 2 → (S i).wait.length ≤ j * 1118576) : ∀ q, q < 2 → ((upd S i S2) q).wait.length ≤ (j + 1) * 1118576 := fun q hq => by
  have e : (j + 1) * 1118576 = j * 1118576 + 1118576 := Nat.succ_mul _ _
  have h1 := h q hq
  have h2 := h i hi
  rw [e]
  by_cases hqi : q = i
  · rw [hqi, upd_self]
    exact Nat.le_trans hl (Nat.add_le_add_right h2 _)
  · have e2 : upd S i S2 q = S q := if_neg hqi
    rw [e2]
    exact Nat.le_trans h1 (Nat.le_add_right _ _)
theorem bound_push {S : Nat → St} {j : Nat} (i : Nat) (hi : i < 2) (T : ByteArray) (hT : T.size ≤ 1118576) (h : ∀ i, i < 2 → (S i).wait.length ≤ j * 1118576) : ∀ q, q < 2 → ((upd S i (pushS (S i) T)) q).wait.length ≤ (j + 1) * 1118576 :=
  bound_next i hi _ (Nat.le_trans (push_len _ _) (Nat.add_le_add_left hT _)) h
theorem bound_most {S : Nat → St} {j : Nat} (i : Nat) (hi : i < 2) (N : Int) (h : ∀ i, i < 2 → (S i).wait.length ≤ j * 1118576) : ∀ q, q < 2 → ((upd S i { S i with most := N }) q).wait.length ≤ (j + 1) * 1118576 :=
  bound_next i hi _ (Nat.le_add_right _ _) h
theorem kp_keep {W W' : World} {g : Nat} {R : Rs} (hR : RF W g R) (hk : Kp g W W') {a : Nat} {cs : Array Value} {t : TypeId} (h : W.heap[a]? = some (.cells cs t (0, 0))) (ht : t ≠ 76) : W'.heap[a]? = some (.cells cs t (0, 0)) := by
  have hR' : W.heap[g]? = some (.cells (rfv R) 76 (0, 0)) := hR
  refine (hk.block a (Array.getElem?_eq_some_iff.1 h).1 fun e => ?_).trans h
  rw [e, hR'] at h
  simp at h
  exact ht h.2.symm
theorem kp_prow {W W' : World} {g : Nat} {R : Rs} (hR : RF W g R) (hk : Kp g W W') {b : Option Addr} {n c : Nat} {ps : List (Int × Int)} (hp : PRow W (.slice b n c) ps) : PRow W' (.slice b n c) ps :=
  hp.below fun k hkk _ => by
    obtain ⟨cur, hc⟩ := hp.type k hkk
    rw [kp_keep hR hk hc (by decide), hc]

set_option maxRecDepth 100000 in
set_option maxHeartbeats 8000000 in
theorem feedPlays_walk (b0 b1 : Bool) (m0 m1 : Int) (sa : Option Addr) (sl sc : Nat) (os : List OpT) (hsl : sl = os.length) (w : World) (hops : Opers w sa os) (hcap : sl ≤ 1048576) (hsize : ∀ o ∈ os, o.s.size ≤ 1048576) (hK : Kinds w) (hw : 1 ≤ w.heap.size) :
    Calls Tryd.prog 8 #[.agg #[.bool b0, .bool b1], .agg #[.int .i64 m0, .int .i64 m1], .slice sa sl sc] w fun e w' => e = .returned (.bool true) ∧ Below w.heap.size w w' := by
  have HO : Hid _ := hops
  have HS : Hid _ := hsize
  have HL : Hid _ := hsl
  clear hops hsize hsl
  have hhead : Hid (∀ W, All w W [] → Calls Tryd.prog 9 #[] W fun e W' => e = .returned (.bool true) ∧ Below W.heap.size W W') := fun W h => head_any W h.kinds (Nat.le_trans h.pos h.bel.size)
  have hA0 : Hid (All w ((w.alloc (.cells #[.bool b0, .bool b1] 57)).alloc (.cells #[.int .i64 m0, .int .i64 m1] 58)) []) := ((All.start hK hw).alloc _).alloc _
  have hb3 : Hid (((w.alloc (.cells #[.bool b0, .bool b1] 57)).alloc (.cells #[.int .i64 m0, .int .i64 m1] 58)).heap[w.heap.size]? = some (.cells #[.bool b0, .bool b1] 57 (0, 0))) := by
    show _ = _
    simp only [heap_al, size_al]
    rw [if_neg (by omega), if_pos trivial]
  have hb4 : Hid (((w.alloc (.cells #[.bool b0, .bool b1] 57)).alloc (.cells #[.int .i64 m0, .int .i64 m1] 58)).heap[w.heap.size + 1]? = some (.cells #[.int .i64 m0, .int .i64 m1] 58 (0, 0))) := by
    show _ = _
    simp only [heap_al, size_al]
    rw [if_pos trivial]
  go_enter Tryd.func8, Tryd.ntmps8
  go_wp2_with fail
  refine (hhead.out _ hA0.out).mono ?_
  rintro e W0 ⟨rfl, hB⟩
  have hP : Hid (P0 w ((W0.alloc (.cells #[.pointer none, .pointer none] 60)).alloc (.cells #[.pointer none, .pointer none] 62)) b0 b1 m0 m1 W0.heap.size (W0.heap.size + 1) [] (.pointer none) (.pointer none) (.pointer none) (.pointer none) []) := by
    have hk := (Kt.below hB).trans ((Kt.alloc W0 (.cells #[.pointer none, .pointer none] 60)).trans (Kt.alloc _ (.cells #[.pointer none, .pointer none] 62)))
    have hs := (hA0.out.later hB).bel.size
    refine ⟨((hA0.out.later hB).alloc _).alloc _, hk _ _ _ hb3.out (by decide) (by decide), hk _ _ _ hb4.out (by decide) (by decide), ?_, ?_, (fun x hx => (List.not_mem_nil hx).elim), List.Pairwise.nil, hs, by omega⟩
    · simp only [heap_al, size_al]
      rw [if_neg (by omega), if_pos trivial]
    · simp only [heap_al, size_al]
      rw [if_pos trivial]
  clear hhead hA0 hb3 hb4 hB
  go_wp2_with fail
  obtain ⟨a7, ha7⟩ : ∃ a7, a7 = W0.heap.size := ⟨_, rfl⟩
  rw [← ha7] at hP ⊢
  clear ha7
  go_loopw [9] (fun i W => (i = .int .i64 0 ∧ Hid (P0 w W b0 b1 m0 m1 a7 (a7 + 1) [] (.pointer none) (.pointer none) (.pointer none) (.pointer none) [])) ∨
      (i = .int .i64 1 ∧ ∃ g0 h0, Hid (P0 w W b0 b1 m0 m1 a7 (a7 + 1) [(g0, .slice none 0 0, ⟨if b0 then prefaceB else ⟨#[]⟩, [], m0, 0⟩)] (.pointer (some ⟨g0, 0, none⟩)) (.pointer none) (.pointer (some ⟨h0, 0, none⟩)) (.pointer none) [(h0, ⟨b0, m0, ⟨#[]⟩, 0⟩)])) ∨
      (i = .int .i64 2 ∧ ∃ g0 g1 h0 h1, Hid (P0 w W b0 b1 m0 m1 a7 (a7 + 1) [(g0, .slice none 0 0, ⟨if b0 then prefaceB else ⟨#[]⟩, [], m0, 0⟩), (g1, .slice none 0 0, ⟨if b1 then prefaceB else ⟨#[]⟩, [], m1, 0⟩)] (.pointer (some ⟨g0, 0, none⟩)) (.pointer (some ⟨g1, 0, none⟩)) (.pointer (some ⟨h0, 0, none⟩)) (.pointer (some ⟨h1, 0, none⟩)) [(h0, ⟨b0, m0, ⟨#[]⟩, 0⟩), (h1, ⟨b1, m1, ⟨#[]⟩, 0⟩)]))) (fun i _ => 2 - (intOf i).toNat)
  case atStart => exact .inl ⟨rfl, hP.out⟩
  case round =>
    clear hP
    rcases hrel with ⟨rfl, hP⟩ | ⟨rfl, g0, h0, hP⟩ | ⟨rfl, g0, g1, h0, h1, hP⟩
    · go_wp2_with fail
      have hI := hP.out.drew
      clear hP
      refine wp_region_held_drew (S := fun W => W.cell? ⟨w.heap.size, 0, none⟩ = some (.bool b0) ∧ W.cell? ⟨w.heap.size + 1, 0, none⟩ = some (.int .i64 m0)) (by kernel_rfl) hI.cells0 (fun hHeld => ?_)
      generalize hWg : World.drew _ = W1 at hI hHeld ⊢
      clear hWg
      refine wpAnyH_take (i := 0) (oi := { dst := some 25, op := Op.move (Operand.tmp 9), type := 3, pos := "law.go:61", after := #[], guard := none }) (v := ?vv1) rfl (by kernel_rfl) (by kernel_rfl) (by kernel_rfl) (fun _ _ _ h => h) (Or.inl ⟨by rfl, ?hy1⟩) (by assumption) ?_
      case hy1 => (intro w hSw; (try dsimp only at hSw); go_simp; all_goals with_reducible rfl)
      try simp only [Act.put, List.setIfInBounds_toArray, List.set_cons_zero, List.set_cons_succ]
      refine wpAnyH_take (i := 1) (oi := { dst := some 26, op := Op.move (Operand.tmp 9), type := 3, pos := "law.go:61", after := #[], guard := none }) (v := ?vv2) rfl (by kernel_rfl) (by kernel_rfl) (by kernel_rfl) (fun _ _ _ h => h) (Or.inl ⟨by rfl, ?hy2⟩) (by assumption) ?_
      case hy2 => (intro w hSw; (try dsimp only at hSw); go_simp; all_goals with_reducible rfl)
      try simp only [Act.put, List.setIfInBounds_toArray, List.set_cons_zero, List.set_cons_succ]
      refine wpAnyH_take (i := 2) (oi := { dst := some 27, op := Op.indexAddr 57 (Operand.tmp 3) (Operand.tmp 26), type := 0, pos := "law.go:61", after := #[{ on := 1, ground := Ground.data }], guard := none }) (v := ?vv3) rfl (by kernel_rfl) (by kernel_rfl) (by kernel_rfl) (fun _ _ _ h => h) (Or.inl ⟨by rfl, ?hy3⟩) (by assumption) ?_
      case hy3 => (intro w hSw; (try dsimp only at hSw); go_simp; all_goals with_reducible rfl)
      try simp only [Act.put, List.setIfInBounds_toArray, List.set_cons_zero, List.set_cons_succ]
      refine wpAnyH_take (i := 3) (oi := { dst := some 28, op := Op.load 4 (Operand.tmp 27), type := 4, pos := "law.go:61", after := #[{ on := 2, ground := Ground.data }], guard := none }) (v := ?vv4) rfl (by kernel_rfl) (by kernel_rfl) (by kernel_rfl) (fun _ _ _ h => h) (Or.inl ⟨by rfl, ?hy4⟩) (by assumption) ?_
      case hy4 => (intro w hSw; (try dsimp only at hSw); go_simp; all_goals with_reducible rfl)
      try simp only [Act.put, List.setIfInBounds_toArray, List.set_cons_zero, List.set_cons_succ]
      refine wpAnyH_take (i := 4) (oi := { dst := some 29, op := Op.move (Operand.tmp 9), type := 3, pos := "law.go:61", after := #[], guard := none }) (v := ?vv5) rfl (by kernel_rfl) (by kernel_rfl) (by kernel_rfl) (fun _ _ _ h => h) (Or.inl ⟨by rfl, ?hy5⟩) (by assumption) ?_
      case hy5 => (intro w hSw; (try dsimp only at hSw); go_simp; all_goals with_reducible rfl)
      try simp only [Act.put, List.setIfInBounds_toArray, List.set_cons_zero, List.set_cons_succ]
      refine wpAnyH_take (i := 5) (oi := { dst := some 30, op := Op.indexAddr 58 (Operand.tmp 4) (Operand.tmp 29), type := 0, pos := "law.go:61", after := #[{ on := 4, ground := Ground.data }], guard := none }) (v := ?vv6) rfl (by kernel_rfl) (by kernel_rfl) (by kernel_rfl) (fun _ _ _ h => h) (Or.inl ⟨by rfl, ?hy6⟩) (by assumption) ?_
      case hy6 => (intro w hSw; (try dsimp only at hSw); go_simp; all_goals with_reducible rfl)
      try simp only [Act.put, List.setIfInBounds_toArray, List.set_cons_zero, List.set_cons_succ]
      refine wpAnyH_take (i := 6) (oi := { dst := some 31, op := Op.load 2 (Operand.tmp 30), type := 2, pos := "law.go:61", after := #[{ on := 5, ground := Ground.data }], guard := none }) (v := ?vv7) rfl (by kernel_rfl) (by kernel_rfl) (by kernel_rfl) (fun _ _ _ h => h) (Or.inl ⟨by rfl, ?hy7⟩) (by assumption) ?_
      case hy7 => (intro w hSw; (try dsimp only at hSw); go_simp; all_goals with_reducible rfl)
      try simp only [Act.put, List.setIfInBounds_toArray, List.set_cons_zero, List.set_cons_succ]
      refine wpAnyH_ready (rs := [7]) (by kernel_rfl) (by simp) ?_
      refine AllReadyH.cons (o := { dst := some 32, op := Op.call { callee := Callee.value (Operand.func 10), args := #[Operand.tmp 28, Operand.tmp 31], argTypes := #[4, 2] }, type := 23, pos := "law.go:61", after := #[{ on := 3, ground := Ground.data }, { on := 6, ground := Ground.data }], guard := none }) rfl (fun K hK => ?_) AllReadyH.nil
      go_simp
      refine (new_all hI.all b0 m0).mono ?_
      rintro e' W2 ⟨g0, rfl, hA, kt⟩
      go_wp2_with fail
      have hJ := hI.kt hA kt
      refine hK.out _ _ hJ.cells0 (fun hHeld => ?_)
      clear hK K hA kt hI
      try simp only [Act.put, List.setIfInBounds_toArray, List.set_cons_zero, List.set_cons_succ]
      refine wpAnyH_take (i := 8) (oi := { dst := some 33, op := Op.indexAddr 60 (Operand.tmp 7) (Operand.tmp 25), type := 0, pos := "law.go:61", after := #[{ on := 0, ground := Ground.data }, { on := 0, ground := Ground.phase }, { on := 1, ground := Ground.phase }, { on := 2, ground := Ground.phase }, { on := 3, ground := Ground.phase }, { on := 4, ground := Ground.phase }, { on := 5, ground := Ground.phase }, { on := 6, ground := Ground.phase }, { on := 7, ground := Ground.phase }], guard := none }) (v := ?vv15) rfl (by kernel_rfl) (by kernel_rfl) (by kernel_rfl) (fun _ _ _ h => h) (Or.inl ⟨by rfl, ?hy15⟩) (by assumption) ?_
      case hy15 => (intro w hSw; (try dsimp only at hSw); go_simp; all_goals with_reducible rfl)
      try simp only [Act.put, List.setIfInBounds_toArray, List.set_cons_zero, List.set_cons_succ]
      have q0 := hJ.lr.1
      have q1 : W2.frozen? ⟨a7, 0, none⟩ = false := frozen_row hJ.l 0
      refine wpAnyH_ready (rs := [9]) (by kernel_rfl) (by simp) ?_
      refine AllReadyH.cons (o := { dst := none, op := Op.store 23 (Operand.tmp 33) (Operand.tmp 32), type := 0, pos := "law.go:61", after := #[{ on := 8, ground := Ground.data }, { on := 7, ground := Ground.data }, { on := 7, ground := Ground.chain }, { on := 0, ground := Ground.phase }, { on := 1, ground := Ground.phase }, { on := 2, ground := Ground.phase }, { on := 3, ground := Ground.phase }, { on := 4, ground := Ground.phase }, { on := 5, ground := Ground.phase }, { on := 6, ground := Ground.phase }, { on := 7, ground := Ground.phase }], guard := none }) rfl (fun K hK => ?_) AllReadyH.nil
      go_simp
      have hI := hJ.setl 0 (.pointer (some ⟨g0, 0, none⟩)) (.pointer (some ⟨g0, 0, none⟩)) (.pointer none) rfl
      refine hK.out _ _ hI.cells0 (fun hHeld => ?_)
      clear hK K hJ q0 q1
      generalize hWg : World.setCell _ _ _ = W3 at hI hHeld ⊢
      clear hWg
      try simp only [Act.put, List.setIfInBounds_toArray, List.set_cons_zero, List.set_cons_succ]
      refine wpAnyH_done (by kernel_rfl) ?_ _
      go_wp2_with fail
      replace hI := hI.drew
      refine wp_region_held_drew (S := fun W => W.cell? ⟨w.heap.size, 0, none⟩ = some (.bool b0) ∧ W.cell? ⟨w.heap.size + 1, 0, none⟩ = some (.int .i64 m0)) (by kernel_rfl) hI.cells0 (fun hHeld => ?_)
      generalize hWg : World.drew _ = W4 at hI hHeld ⊢
      clear hWg
      refine wpAnyH_take (i := 0) (oi := { dst := some 34, op := Op.move (Operand.tmp 9), type := 3, pos := "law.go:62", after := #[], guard := none }) (v := ?vv8) rfl (by kernel_rfl) (by kernel_rfl) (by kernel_rfl) (fun _ _ _ h => h) (Or.inl ⟨by rfl, ?hy8⟩) (by assumption) ?_
      case hy8 => (intro w hSw; (try dsimp only at hSw); go_simp; all_goals with_reducible rfl)
      try simp only [Act.put, List.setIfInBounds_toArray, List.set_cons_zero, List.set_cons_succ]
      refine wpAnyH_take (i := 1) (oi := { dst := some 35, op := Op.move (Operand.tmp 9), type := 3, pos := "law.go:62", after := #[], guard := none }) (v := ?vv9) rfl (by kernel_rfl) (by kernel_rfl) (by kernel_rfl) (fun _ _ _ h => h) (Or.inl ⟨by rfl, ?hy9⟩) (by assumption) ?_
      case hy9 => (intro w hSw; (try dsimp only at hSw); go_simp; all_goals with_reducible rfl)
      try simp only [Act.put, List.setIfInBounds_toArray, List.set_cons_zero, List.set_cons_succ]
      refine wpAnyH_take (i := 2) (oi := { dst := some 36, op := Op.indexAddr 57 (Operand.tmp 3) (Operand.tmp 35), type := 0, pos := "law.go:62", after := #[{ on := 1, ground := Ground.data }], guard := none }) (v := ?vv10) rfl (by kernel_rfl) (by kernel_rfl) (by kernel_rfl) (fun _ _ _ h => h) (Or.inl ⟨by rfl, ?hy10⟩) (by assumption) ?_
      case hy10 => (intro w hSw; (try dsimp only at hSw); go_simp; all_goals with_reducible rfl)
      try simp only [Act.put, List.setIfInBounds_toArray, List.set_cons_zero, List.set_cons_succ]
      refine wpAnyH_take (i := 3) (oi := { dst := some 37, op := Op.load 4 (Operand.tmp 36), type := 4, pos := "law.go:62", after := #[{ on := 2, ground := Ground.data }], guard := none }) (v := ?vv11) rfl (by kernel_rfl) (by kernel_rfl) (by kernel_rfl) (fun _ _ _ h => h) (Or.inl ⟨by rfl, ?hy11⟩) (by assumption) ?_
      case hy11 => (intro w hSw; (try dsimp only at hSw); go_simp; all_goals with_reducible rfl)
      try simp only [Act.put, List.setIfInBounds_toArray, List.set_cons_zero, List.set_cons_succ]
      refine wpAnyH_take (i := 4) (oi := { dst := some 38, op := Op.move (Operand.tmp 9), type := 3, pos := "law.go:62", after := #[], guard := none }) (v := ?vv12) rfl (by kernel_rfl) (by kernel_rfl) (by kernel_rfl) (fun _ _ _ h => h) (Or.inl ⟨by rfl, ?hy12⟩) (by assumption) ?_
      case hy12 => (intro w hSw; (try dsimp only at hSw); go_simp; all_goals with_reducible rfl)
      try simp only [Act.put, List.setIfInBounds_toArray, List.set_cons_zero, List.set_cons_succ]
      refine wpAnyH_take (i := 5) (oi := { dst := some 39, op := Op.indexAddr 58 (Operand.tmp 4) (Operand.tmp 38), type := 0, pos := "law.go:62", after := #[{ on := 4, ground := Ground.data }], guard := none }) (v := ?vv13) rfl (by kernel_rfl) (by kernel_rfl) (by kernel_rfl) (fun _ _ _ h => h) (Or.inl ⟨by rfl, ?hy13⟩) (by assumption) ?_
      case hy13 => (intro w hSw; (try dsimp only at hSw); go_simp; all_goals with_reducible rfl)
      try simp only [Act.put, List.setIfInBounds_toArray, List.set_cons_zero, List.set_cons_succ]
      refine wpAnyH_take (i := 6) (oi := { dst := some 40, op := Op.load 2 (Operand.tmp 39), type := 2, pos := "law.go:62", after := #[{ on := 5, ground := Ground.data }], guard := none }) (v := ?vv14) rfl (by kernel_rfl) (by kernel_rfl) (by kernel_rfl) (fun _ _ _ h => h) (Or.inl ⟨by rfl, ?hy14⟩) (by assumption) ?_
      case hy14 => (intro w hSw; (try dsimp only at hSw); go_simp; all_goals with_reducible rfl)
      try simp only [Act.put, List.setIfInBounds_toArray, List.set_cons_zero, List.set_cons_succ]
      refine wpAnyH_ready (rs := [7]) (by kernel_rfl) (by simp) ?_
      refine AllReadyH.cons (o := { dst := some 41, op := Op.call { callee := Callee.value (Operand.func 20), args := #[Operand.tmp 37, Operand.tmp 40], argTypes := #[4, 2] }, type := 61, pos := "law.go:62", after := #[{ on := 3, ground := Ground.data }, { on := 6, ground := Ground.data }], guard := none }) rfl (fun K hK => ?_) AllReadyH.nil
      go_simp
      refine (rnew_any b0 m0 W4).mono ?_
      rintro e' W5 ⟨rfl, hR, hb, -⟩
      obtain ⟨h0, hh⟩ : ∃ h0, h0 = W4.heap.size := ⟨_, rfl⟩
      go_wp2_with fail
      have hJ := hI.rnew hR hb
      rw [← hh] at hJ
      rw [← hh]
      refine hK.out _ _ hJ.cells0 (fun hHeld => ?_)
      clear hK K hb hR hI hh
      try simp only [Act.put, List.setIfInBounds_toArray, List.set_cons_zero, List.set_cons_succ]
      refine wpAnyH_take (i := 8) (oi := { dst := some 42, op := Op.indexAddr 62 (Operand.tmp 8) (Operand.tmp 34), type := 0, pos := "law.go:62", after := #[{ on := 0, ground := Ground.data }, { on := 0, ground := Ground.phase }, { on := 1, ground := Ground.phase }, { on := 2, ground := Ground.phase }, { on := 3, ground := Ground.phase }, { on := 4, ground := Ground.phase }, { on := 5, ground := Ground.phase }, { on := 6, ground := Ground.phase }, { on := 7, ground := Ground.phase }], guard := none }) (v := ?vv16) rfl (by kernel_rfl) (by kernel_rfl) (by kernel_rfl) (fun _ _ _ h => h) (Or.inl ⟨by rfl, ?hy16⟩) (by assumption) ?_
      case hy16 => (intro w hSw; (try dsimp only at hSw); go_simp; all_goals with_reducible rfl)
      try simp only [Act.put, List.setIfInBounds_toArray, List.set_cons_zero, List.set_cons_succ]
      have q0 := hJ.lr.2.2.1
      have q1 : W5.frozen? ⟨a7 + 1, 0, none⟩ = false := frozen_row hJ.r 0
      refine wpAnyH_ready (rs := [9]) (by kernel_rfl) (by simp) ?_
      refine AllReadyH.cons (o := { dst := none, op := Op.store 61 (Operand.tmp 42) (Operand.tmp 41), type := 0, pos := "law.go:62", after := #[{ on := 8, ground := Ground.data }, { on := 7, ground := Ground.data }, { on := 7, ground := Ground.chain }, { on := 0, ground := Ground.phase }, { on := 1, ground := Ground.phase }, { on := 2, ground := Ground.phase }, { on := 3, ground := Ground.phase }, { on := 4, ground := Ground.phase }, { on := 5, ground := Ground.phase }, { on := 6, ground := Ground.phase }, { on := 7, ground := Ground.phase }], guard := none }) rfl (fun K hK => ?_) AllReadyH.nil
      go_simp
      have hI := hJ.setr 0 (.pointer (some ⟨h0, 0, none⟩)) (.pointer (some ⟨h0, 0, none⟩)) (.pointer none) rfl
      refine hK.out _ _ hI.cells0 (fun hHeld => ?_)
      clear hK K hJ q0 q1
      generalize hWg : World.setCell _ _ _ = W6 at hI hHeld ⊢
      clear hWg hHeld
      try simp only [Act.put, List.setIfInBounds_toArray, List.set_cons_zero, List.set_cons_succ]
      refine wpAnyH_done (by kernel_rfl) ?_ _
      have q0 := hI.lr.1
      replace hI : Hid _ := hI
      go_wp2_with fail
      go_roundw
      case rel => exact .inr (.inl ⟨rfl, g0, h0, hI.out⟩)
      case measure => simp [intOf]
    · go_wp2_with fail
      have hI := hP.out.drew
      clear hP
      refine wp_region_held_drew (S := fun W => W.cell? ⟨w.heap.size, 1, none⟩ = some (.bool b1) ∧ W.cell? ⟨w.heap.size + 1, 1, none⟩ = some (.int .i64 m1)) (by kernel_rfl) hI.cells1 (fun hHeld => ?_)
      generalize hWg : World.drew _ = W1 at hI hHeld ⊢
      clear hWg
      refine wpAnyH_take (i := 0) (oi := { dst := some 25, op := Op.move (Operand.tmp 9), type := 3, pos := "law.go:61", after := #[], guard := none }) (v := ?vv17) rfl (by kernel_rfl) (by kernel_rfl) (by kernel_rfl) (fun _ _ _ h => h) (Or.inl ⟨by rfl, ?hy17⟩) (by assumption) ?_
      case hy17 => (intro w hSw; (try dsimp only at hSw); go_simp; all_goals with_reducible rfl)
      try simp only [Act.put, List.setIfInBounds_toArray, List.set_cons_zero, List.set_cons_succ]
      refine wpAnyH_take (i := 1) (oi := { dst := some 26, op := Op.move (Operand.tmp 9), type := 3, pos := "law.go:61", after := #[], guard := none }) (v := ?vv18) rfl (by kernel_rfl) (by kernel_rfl) (by kernel_rfl) (fun _ _ _ h => h) (Or.inl ⟨by rfl, ?hy18⟩) (by assumption) ?_
      case hy18 => (intro w hSw; (try dsimp only at hSw); go_simp; all_goals with_reducible rfl)
      try simp only [Act.put, List.setIfInBounds_toArray, List.set_cons_zero, List.set_cons_succ]
      refine wpAnyH_take (i := 2) (oi := { dst := some 27, op := Op.indexAddr 57 (Operand.tmp 3) (Operand.tmp 26), type := 0, pos := "law.go:61", after := #[{ on := 1, ground := Ground.data }], guard := none }) (v := ?vv19) rfl (by kernel_rfl) (by kernel_rfl) (by kernel_rfl) (fun _ _ _ h => h) (Or.inl ⟨by rfl, ?hy19⟩) (by assumption) ?_
      case hy19 => (intro w hSw; (try dsimp only at hSw); go_simp; all_goals with_reducible rfl)
      try simp only [Act.put, List.setIfInBounds_toArray, List.set_cons_zero, List.set_cons_succ]
      refine wpAnyH_take (i := 3) (oi := { dst := some 28, op := Op.load 4 (Operand.tmp 27), type := 4, pos := "law.go:61", after := #[{ on := 2, ground := Ground.data }], guard := none }) (v := ?vv20) rfl (by kernel_rfl) (by kernel_rfl) (by kernel_rfl) (fun _ _ _ h => h) (Or.inl ⟨by rfl, ?hy20⟩) (by assumption) ?_
      case hy20 => (intro w hSw; (try dsimp only at hSw); go_simp; all_goals with_reducible rfl)
      try simp only [Act.put, List.setIfInBounds_toArray, List.set_cons_zero, List.set_cons_succ]
      refine wpAnyH_take (i := 4) (oi := { dst := some 29, op := Op.move (Operand.tmp 9), type := 3, pos := "law.go:61", after := #[], guard := none }) (v := ?vv21) rfl (by kernel_rfl) (by kernel_rfl) (by kernel_rfl) (fun _ _ _ h => h) (Or.inl ⟨by rfl, ?hy21⟩) (by assumption) ?_
      case hy21 => (intro w hSw; (try dsimp only at hSw); go_simp; all_goals with_reducible rfl)
      try simp only [Act.put, List.setIfInBounds_toArray, List.set_cons_zero, List.set_cons_succ]
      refine wpAnyH_take (i := 5) (oi := { dst := some 30, op := Op.indexAddr 58 (Operand.tmp 4) (Operand.tmp 29), type := 0, pos := "law.go:61", after := #[{ on := 4, ground := Ground.data }], guard := none }) (v := ?vv22) rfl (by kernel_rfl) (by kernel_rfl) (by kernel_rfl) (fun _ _ _ h => h) (Or.inl ⟨by rfl, ?hy22⟩) (by assumption) ?_
      case hy22 => (intro w hSw; (try dsimp only at hSw); go_simp; all_goals with_reducible rfl)
      try simp only [Act.put, List.setIfInBounds_toArray, List.set_cons_zero, List.set_cons_succ]
      refine wpAnyH_take (i := 6) (oi := { dst := some 31, op := Op.load 2 (Operand.tmp 30), type := 2, pos := "law.go:61", after := #[{ on := 5, ground := Ground.data }], guard := none }) (v := ?vv23) rfl (by kernel_rfl) (by kernel_rfl) (by kernel_rfl) (fun _ _ _ h => h) (Or.inl ⟨by rfl, ?hy23⟩) (by assumption) ?_
      case hy23 => (intro w hSw; (try dsimp only at hSw); go_simp; all_goals with_reducible rfl)
      try simp only [Act.put, List.setIfInBounds_toArray, List.set_cons_zero, List.set_cons_succ]
      refine wpAnyH_ready (rs := [7]) (by kernel_rfl) (by simp) ?_
      refine AllReadyH.cons (o := { dst := some 32, op := Op.call { callee := Callee.value (Operand.func 10), args := #[Operand.tmp 28, Operand.tmp 31], argTypes := #[4, 2] }, type := 23, pos := "law.go:61", after := #[{ on := 3, ground := Ground.data }, { on := 6, ground := Ground.data }], guard := none }) rfl (fun K hK => ?_) AllReadyH.nil
      go_simp
      refine (new_all hI.all b1 m1).mono ?_
      rintro e' W2 ⟨g1, rfl, hA, kt⟩
      go_wp2_with fail
      have hJ := hI.kt hA kt
      refine hK.out _ _ hJ.cells1 (fun hHeld => ?_)
      clear hK K hA kt hI
      try simp only [Act.put, List.setIfInBounds_toArray, List.set_cons_zero, List.set_cons_succ]
      refine wpAnyH_take (i := 8) (oi := { dst := some 33, op := Op.indexAddr 60 (Operand.tmp 7) (Operand.tmp 25), type := 0, pos := "law.go:61", after := #[{ on := 0, ground := Ground.data }, { on := 0, ground := Ground.phase }, { on := 1, ground := Ground.phase }, { on := 2, ground := Ground.phase }, { on := 3, ground := Ground.phase }, { on := 4, ground := Ground.phase }, { on := 5, ground := Ground.phase }, { on := 6, ground := Ground.phase }, { on := 7, ground := Ground.phase }], guard := none }) (v := ?vv31) rfl (by kernel_rfl) (by kernel_rfl) (by kernel_rfl) (fun _ _ _ h => h) (Or.inl ⟨by rfl, ?hy31⟩) (by assumption) ?_
      case hy31 => (intro w hSw; (try dsimp only at hSw); go_simp; all_goals with_reducible rfl)
      try simp only [Act.put, List.setIfInBounds_toArray, List.set_cons_zero, List.set_cons_succ]
      have q0 := hJ.lr.2.1
      have q1 : W2.frozen? ⟨a7, 1, none⟩ = false := frozen_row hJ.l 1
      refine wpAnyH_ready (rs := [9]) (by kernel_rfl) (by simp) ?_
      refine AllReadyH.cons (o := { dst := none, op := Op.store 23 (Operand.tmp 33) (Operand.tmp 32), type := 0, pos := "law.go:61", after := #[{ on := 8, ground := Ground.data }, { on := 7, ground := Ground.data }, { on := 7, ground := Ground.chain }, { on := 0, ground := Ground.phase }, { on := 1, ground := Ground.phase }, { on := 2, ground := Ground.phase }, { on := 3, ground := Ground.phase }, { on := 4, ground := Ground.phase }, { on := 5, ground := Ground.phase }, { on := 6, ground := Ground.phase }, { on := 7, ground := Ground.phase }], guard := none }) rfl (fun K hK => ?_) AllReadyH.nil
      go_simp
      have hI := hJ.setl 1 (.pointer (some ⟨g1, 0, none⟩)) (.pointer (some ⟨g0, 0, none⟩)) (.pointer (some ⟨g1, 0, none⟩)) rfl
      refine hK.out _ _ hI.cells1 (fun hHeld => ?_)
      clear hK K hJ q0 q1
      generalize hWg : World.setCell _ _ _ = W3 at hI hHeld ⊢
      clear hWg
      try simp only [Act.put, List.setIfInBounds_toArray, List.set_cons_zero, List.set_cons_succ]
      refine wpAnyH_done (by kernel_rfl) ?_ _
      go_wp2_with fail
      replace hI := hI.drew
      refine wp_region_held_drew (S := fun W => W.cell? ⟨w.heap.size, 1, none⟩ = some (.bool b1) ∧ W.cell? ⟨w.heap.size + 1, 1, none⟩ = some (.int .i64 m1)) (by kernel_rfl) hI.cells1 (fun hHeld => ?_)
      generalize hWg : World.drew _ = W4 at hI hHeld ⊢
      clear hWg
      refine wpAnyH_take (i := 0) (oi := { dst := some 34, op := Op.move (Operand.tmp 9), type := 3, pos := "law.go:62", after := #[], guard := none }) (v := ?vv24) rfl (by kernel_rfl) (by kernel_rfl) (by kernel_rfl) (fun _ _ _ h => h) (Or.inl ⟨by rfl, ?hy24⟩) (by assumption) ?_
      case hy24 => (intro w hSw; (try dsimp only at hSw); go_simp; all_goals with_reducible rfl)
      try simp only [Act.put, List.setIfInBounds_toArray, List.set_cons_zero, List.set_cons_succ]
      refine wpAnyH_take (i := 1) (oi := { dst := some 35, op := Op.move (Operand.tmp 9), type := 3, pos := "law.go:62", after := #[], guard := none }) (v := ?vv25) rfl (by kernel_rfl) (by kernel_rfl) (by kernel_rfl) (fun _ _ _ h => h) (Or.inl ⟨by rfl, ?hy25⟩) (by assumption) ?_
      case hy25 => (intro w hSw; (try dsimp only at hSw); go_simp; all_goals with_reducible rfl)
      try simp only [Act.put, List.setIfInBounds_toArray, List.set_cons_zero, List.set_cons_succ]
      refine wpAnyH_take (i := 2) (oi := { dst := some 36, op := Op.indexAddr 57 (Operand.tmp 3) (Operand.tmp 35), type := 0, pos := "law.go:62", after := #[{ on := 1, ground := Ground.data }], guard := none }) (v := ?vv26) rfl (by kernel_rfl) (by kernel_rfl) (by kernel_rfl) (fun _ _ _ h => h) (Or.inl ⟨by rfl, ?hy26⟩) (by assumption) ?_
      case hy26 => (intro w hSw; (try dsimp only at hSw); go_simp; all_goals with_reducible rfl)
      try simp only [Act.put, List.setIfInBounds_toArray, List.set_cons_zero, List.set_cons_succ]
      refine wpAnyH_take (i := 3) (oi := { dst := some 37, op := Op.load 4 (Operand.tmp 36), type := 4, pos := "law.go:62", after := #[{ on := 2, ground := Ground.data }], guard := none }) (v := ?vv27) rfl (by kernel_rfl) (by kernel_rfl) (by kernel_rfl) (fun _ _ _ h => h) (Or.inl ⟨by rfl, ?hy27⟩) (by assumption) ?_
      case hy27 => (intro w hSw; (try dsimp only at hSw); go_simp; all_goals with_reducible rfl)
      try simp only [Act.put, List.setIfInBounds_toArray, List.set_cons_zero, List.set_cons_succ]
      refine wpAnyH_take (i := 4) (oi := { dst := some 38, op := Op.move (Operand.tmp 9), type := 3, pos := "law.go:62", after := #[], guard := none }) (v := ?vv28) rfl (by kernel_rfl) (by kernel_rfl) (by kernel_rfl) (fun _ _ _ h => h) (Or.inl ⟨by rfl, ?hy28⟩) (by assumption) ?_
      case hy28 => (intro w hSw; (try dsimp only at hSw); go_simp; all_goals with_reducible rfl)
      try simp only [Act.put, List.setIfInBounds_toArray, List.set_cons_zero, List.set_cons_succ]
      refine wpAnyH_take (i := 5) (oi := { dst := some 39, op := Op.indexAddr 58 (Operand.tmp 4) (Operand.tmp 38), type := 0, pos := "law.go:62", after := #[{ on := 4, ground := Ground.data }], guard := none }) (v := ?vv29) rfl (by kernel_rfl) (by kernel_rfl) (by kernel_rfl) (fun _ _ _ h => h) (Or.inl ⟨by rfl, ?hy29⟩) (by assumption) ?_
      case hy29 => (intro w hSw; (try dsimp only at hSw); go_simp; all_goals with_reducible rfl)
      try simp only [Act.put, List.setIfInBounds_toArray, List.set_cons_zero, List.set_cons_succ]
      refine wpAnyH_take (i := 6) (oi := { dst := some 40, op := Op.load 2 (Operand.tmp 39), type := 2, pos := "law.go:62", after := #[{ on := 5, ground := Ground.data }], guard := none }) (v := ?vv30) rfl (by kernel_rfl) (by kernel_rfl) (by kernel_rfl) (fun _ _ _ h => h) (Or.inl ⟨by rfl, ?hy30⟩) (by assumption) ?_
      case hy30 => (intro w hSw; (try dsimp only at hSw); go_simp; all_goals with_reducible rfl)
      try simp only [Act.put, List.setIfInBounds_toArray, List.set_cons_zero, List.set_cons_succ]
      refine wpAnyH_ready (rs := [7]) (by kernel_rfl) (by simp) ?_
      refine AllReadyH.cons (o := { dst := some 41, op := Op.call { callee := Callee.value (Operand.func 20), args := #[Operand.tmp 37, Operand.tmp 40], argTypes := #[4, 2] }, type := 61, pos := "law.go:62", after := #[{ on := 3, ground := Ground.data }, { on := 6, ground := Ground.data }], guard := none }) rfl (fun K hK => ?_) AllReadyH.nil
      go_simp
      refine (rnew_any b1 m1 W4).mono ?_
      rintro e' W5 ⟨rfl, hR, hb, -⟩
      obtain ⟨h1, hh⟩ : ∃ h1, h1 = W4.heap.size := ⟨_, rfl⟩
      go_wp2_with fail
      have hJ := hI.rnew hR hb
      rw [← hh] at hJ
      rw [← hh]
      refine hK.out _ _ hJ.cells1 (fun hHeld => ?_)
      clear hK K hb hR hI hh
      try simp only [Act.put, List.setIfInBounds_toArray, List.set_cons_zero, List.set_cons_succ]
      refine wpAnyH_take (i := 8) (oi := { dst := some 42, op := Op.indexAddr 62 (Operand.tmp 8) (Operand.tmp 34), type := 0, pos := "law.go:62", after := #[{ on := 0, ground := Ground.data }, { on := 0, ground := Ground.phase }, { on := 1, ground := Ground.phase }, { on := 2, ground := Ground.phase }, { on := 3, ground := Ground.phase }, { on := 4, ground := Ground.phase }, { on := 5, ground := Ground.phase }, { on := 6, ground := Ground.phase }, { on := 7, ground := Ground.phase }], guard := none }) (v := ?vv32) rfl (by kernel_rfl) (by kernel_rfl) (by kernel_rfl) (fun _ _ _ h => h) (Or.inl ⟨by rfl, ?hy32⟩) (by assumption) ?_
      case hy32 => (intro w hSw; (try dsimp only at hSw); go_simp; all_goals with_reducible rfl)
      try simp only [Act.put, List.setIfInBounds_toArray, List.set_cons_zero, List.set_cons_succ]
      have q0 := hJ.lr.2.2.2
      have q1 : W5.frozen? ⟨a7 + 1, 1, none⟩ = false := frozen_row hJ.r 1
      refine wpAnyH_ready (rs := [9]) (by kernel_rfl) (by simp) ?_
      refine AllReadyH.cons (o := { dst := none, op := Op.store 61 (Operand.tmp 42) (Operand.tmp 41), type := 0, pos := "law.go:62", after := #[{ on := 8, ground := Ground.data }, { on := 7, ground := Ground.data }, { on := 7, ground := Ground.chain }, { on := 0, ground := Ground.phase }, { on := 1, ground := Ground.phase }, { on := 2, ground := Ground.phase }, { on := 3, ground := Ground.phase }, { on := 4, ground := Ground.phase }, { on := 5, ground := Ground.phase }, { on := 6, ground := Ground.phase }, { on := 7, ground := Ground.phase }], guard := none }) rfl (fun K hK => ?_) AllReadyH.nil
      go_simp
      have hI := hJ.setr 1 (.pointer (some ⟨h1, 0, none⟩)) (.pointer (some ⟨h0, 0, none⟩)) (.pointer (some ⟨h1, 0, none⟩)) rfl
      refine hK.out _ _ hI.cells1 (fun hHeld => ?_)
      clear hK K hJ q0 q1
      generalize hWg : World.setCell _ _ _ = W6 at hI hHeld ⊢
      clear hWg hHeld
      try simp only [Act.put, List.setIfInBounds_toArray, List.set_cons_zero, List.set_cons_succ]
      refine wpAnyH_done (by kernel_rfl) ?_ _
      have q0 := hI.lr.2.1
      replace hI : Hid _ := hI
      go_wp2_with fail
      go_roundw
      case rel => exact .inr (.inr ⟨rfl, g0, g1, h0, h1, hI.out⟩)
      case measure => simp [intOf]
    · obtain ⟨G, H, V, S, R, hPl, hlen⟩ := hP.out.pl
      replace hPl : Hid (Pl w _ a7 (a7 + 1) G H V S R) := hPl
      replace hlen : Hid _ := hlen
      clear hP
      go_wp2_with fail
      go_loopw [10] (fun i W => ∃ (j : Nat) (G H : Nat → Nat) (V : Nat → Value) (S : Nat → St) (R : Nat → Rs), j ≤ sl ∧ i = .int .i64 (j : Int) ∧ Hid (Pl w W a7 (a7 + 1) G H V S R) ∧ Hid (∀ i, i < 2 → (S i).wait.length ≤ j * 1118576)) (fun i _ => sl - (intOf i).toNat)
      case atStart => exact ⟨0, G, H, V, S, R, Nat.zero_le _, rfl, hPl.out, fun i hi => by rw [hlen.out i hi]; exact Nat.zero_le _⟩
      case round =>
        clear hPl hlen
        obtain ⟨j, G, H, V, S, R, hj, rfl, hPl, hlen⟩ := hrel
        by_cases hlt : j < sl
        · have hlt' : (j : Int) < (sl : Int) := by omega
          obtain ⟨g, off, kind, two, s, n, N, rfl, hcells, hs⟩ : ∃ g off kind two s n N, sa = some ⟨g, off, none⟩ ∧ Hid (∀ W, Below w.heap.size w W → W.cell? ⟨g, off + j * 5, none⟩ = some (.int .i64 kind) ∧ W.cell? ⟨g, off + j * 5 + 1, none⟩ = some (.bool two) ∧ W.cell? ⟨g, off + j * 5 + 2, none⟩ = some (.string s) ∧ W.cell? ⟨g, off + j * 5 + 3, none⟩ = some (.int .i64 n) ∧ W.cell? ⟨g, off + j * 5 + 4, none⟩ = some (.int .i64 N)) ∧ s.size ≤ 1048576 := by
            have hjl : j < os.length := by rw [← HL.out]; exact hlt
            obtain ⟨g, off, e, c0, c1, c2, c3, c4⟩ := HO.out j hjl
            exact ⟨g, off, _, _, _, _, _, e, fun W hb => ⟨(hb.cell (World.block_lt_of_cell? _ _ c0)).trans c0, (hb.cell (World.block_lt_of_cell? _ _ c1)).trans c1, (hb.cell (World.block_lt_of_cell? _ _ c2)).trans c2, (hb.cell (World.block_lt_of_cell? _ _ c3)).trans c3, (hb.cell (World.block_lt_of_cell? _ _ c4)).trans c4⟩, HS.out _ (List.getElem_mem hjl)⟩
          obtain ⟨C0, C1, C2, C3, C4⟩ := hcells.out _ hPl.out.all.bel
          cases two
          · obtain ⟨L1, L2⟩ := hPl.out.cells 0 (by decide)
            by_cases h1 : kind = 1
            · subst h1
              go_wp2_with fail
              refine (text_any 1 false s n N wr hs).mono ?_
              rintro e W1 ⟨⟨T, rfl, hT⟩, hb⟩
              replace hPl : Hid (Pl w W1 a7 (a7 + 1) G H V S R) := hPl.out.later hb
              clear hb C0 C1 C2 C3 C4 L1 L2
              obtain ⟨L1, L2⟩ := hPl.out.cells 0 (by decide)
              go_wp2_with fail
              refine (push_all hPl.out.all 0 (fedL_get G V S 0 (by decide)) T (by have := hlen.out 0 (by decide); have := Nat.mul_le_mul_right 1118576 (Nat.le_trans hj hcap); omega)).mono ?_
              rintro e W2 ⟨rfl, v', hA, kt⟩
              have L2' : W2.cell? ⟨a7 + 1, 0, none⟩ = some (.pointer (some ⟨H 0, 0, none⟩)) := by rw [cell_of_row _ _ _ _ _ _ (kt _ _ _ hPl.out.r (by decide) (by decide))]; rfl
              have hA' : Hid _ := hA
              have kt' : Hid (Kt W1 W2) := kt
              clear hA kt L1 L2
              go_wp2_with fail
              refine (rpush_any W2 (H 0) (R 0) (kt'.out _ _ _ (hPl.out.rf 0 (by decide)) (by decide) (by decide)) T (by have := hlen.out 0 (by decide); have := (hPl.out.rel 0 (by decide)).len; have := Nat.mul_le_mul_right 1118576 (Nat.le_trans hj hcap); omega)).mono ?_
              rintro e W3 ⟨rfl, hR, hk⟩
              have hq := hPl.out.step 0 (by decide) hA'.out kt'.out hR hk ((hPl.out.rel 0 (by decide)).push T)
              have hbd := bound_push (S := S) 0 (by decide) T hT hlen.out
              obtain ⟨V', S', R', hQ, hlq⟩ : ∃ V' S' R', Hid (Pl w W3 a7 (a7 + 1) G H V' S' R') ∧ Hid (∀ i, i < 2 → (S' i).wait.length ≤ (j + 1) * 1118576) := ⟨_, _, _, hq, hbd⟩
              clear hq hbd hA' kt' hR hk hPl hlen L2'
              go_wp2_with fail
              replace hQ : Pl w _ a7 (a7 + 1) G H V' S' R' := hQ.out.drew
              refine wp_region_held_drew (S := fun W => W.cell? ⟨a7, 0, none⟩ = some (.pointer (some ⟨G 0, 0, none⟩)) ∧ W.cell? ⟨a7, 1, none⟩ = some (.pointer (some ⟨G 1, 0, none⟩)) ∧ W.cell? ⟨a7 + 1, 0, none⟩ = some (.pointer (some ⟨H 0, 0, none⟩)) ∧ W.cell? ⟨a7 + 1, 1, none⟩ = some (.pointer (some ⟨H 1, 0, none⟩))) (by kernel_rfl) ⟨(hQ.cells 0 (by decide)).1, (hQ.cells 1 (by decide)).1, (hQ.cells 0 (by decide)).2, (hQ.cells 1 (by decide)).2⟩ (fun hHeld => ?_)
              generalize hWg : World.drew _ = W9 at hQ hHeld ⊢
              clear hWg
              obtain ⟨Z, hZ⟩ : ∃ Z : Nat → Nat, ∀ q, q < 2 → (S' q).wait.length = Z q ∧ (R' q).b.size = Z q := ⟨fun q => (R' q).b.size, fun q hq => ⟨(hQ.rel q hq).len, rfl⟩⟩
              have hw13 : Hid (∀ q, q < 2 → Calls Tryd.prog 13 #[.pointer (some ⟨G q, 0, none⟩)] W9 fun e W' => e = .returned (.int .i64 (Z q : Int)) ∧ W' = W9) := fun q hq => by
                have := wait_all hQ.all q (fedL_get G V' S' q hq)
                rw [(hZ q hq).1] at this
                exact this
              have hw25 : Hid (∀ q, q < 2 → Calls Tryd.prog 25 #[.pointer (some ⟨H q, 0, none⟩)] W9 fun e W' => e = .returned (.int .i64 (Z q : Int)) ∧ W' = W9) := fun q hq => by
                have := rwait_any W9 (H q) (R' q) (hQ.rf q hq)
                rw [(hZ q hq).2] at this
                exact this
              replace hQ : Hid _ := hQ
              clear hZ
              have hH9 : Hid ((fun W => W.cell? ⟨a7, 0, none⟩ = some (.pointer (some ⟨G 0, 0, none⟩)) ∧ W.cell? ⟨a7, 1, none⟩ = some (.pointer (some ⟨G 1, 0, none⟩)) ∧ W.cell? ⟨a7 + 1, 0, none⟩ = some (.pointer (some ⟨H 0, 0, none⟩)) ∧ W.cell? ⟨a7 + 1, 1, none⟩ = some (.pointer (some ⟨H 1, 0, none⟩))) W9) := ⟨(hQ.out.cells 0 (by decide)).1, (hQ.out.cells 1 (by decide)).1, (hQ.out.cells 0 (by decide)).2, (hQ.out.cells 1 (by decide)).2⟩
              refine wpAnyH_take (i := 0) (oi := { dst := some 132, op := Op.indexAddr 60 (Operand.tmp 7) (Operand.const (Value.int IntKind.i64 0)), type := 0, pos := "law.go:87", after := #[], guard := none }) (v := ?vv33) rfl (by kernel_rfl) (by kernel_rfl) (by kernel_rfl) (fun _ _ _ h => h) (Or.inl ⟨by rfl, ?hy33⟩) (by assumption) ?_
              case hy33 => (intro w hSw; (try dsimp only at hSw); go_simp; all_goals with_reducible rfl)
              try simp only [Act.put, List.setIfInBounds_toArray, List.set_cons_zero, List.set_cons_succ]
              refine wpAnyH_take (i := 1) (oi := { dst := some 133, op := Op.load 23 (Operand.tmp 132), type := 23, pos := "law.go:87", after := #[{ on := 0, ground := Ground.data }], guard := none }) (v := ?vv34) rfl (by kernel_rfl) (by kernel_rfl) (by kernel_rfl) (fun _ _ _ h => h) (Or.inl ⟨by rfl, ?hy34⟩) (by assumption) ?_
              case hy34 => (intro w hSw; (try dsimp only at hSw); go_simp; all_goals with_reducible rfl)
              try simp only [Act.put, List.setIfInBounds_toArray, List.set_cons_zero, List.set_cons_succ]
              refine wpAnyH_take (i := 3) (oi := { dst := some 135, op := Op.indexAddr 62 (Operand.tmp 8) (Operand.const (Value.int IntKind.i64 0)), type := 0, pos := "law.go:87", after := #[], guard := none }) (v := ?vv35) rfl (by kernel_rfl) (by kernel_rfl) (by kernel_rfl) (fun _ _ _ h => h) (Or.inl ⟨by rfl, ?hy35⟩) (by assumption) ?_
              case hy35 => (intro w hSw; (try dsimp only at hSw); go_simp; all_goals with_reducible rfl)
              try simp only [Act.put, List.setIfInBounds_toArray, List.set_cons_zero, List.set_cons_succ]
              refine wpAnyH_take (i := 4) (oi := { dst := some 136, op := Op.load 61 (Operand.tmp 135), type := 61, pos := "law.go:87", after := #[{ on := 3, ground := Ground.data }], guard := none }) (v := ?vv36) rfl (by kernel_rfl) (by kernel_rfl) (by kernel_rfl) (fun _ _ _ h => h) (Or.inl ⟨by rfl, ?hy36⟩) (by assumption) ?_
              case hy36 => (intro w hSw; (try dsimp only at hSw); go_simp; all_goals with_reducible rfl)
              try simp only [Act.put, List.setIfInBounds_toArray, List.set_cons_zero, List.set_cons_succ]
              refine wpAnyH_ready (rs := [2]) (by kernel_rfl) (by simp) ?_
              refine AllReadyH.cons (o := { dst := some 134, op := Op.call { callee := Callee.value (Operand.func 13), args := #[Operand.tmp 133], argTypes := #[23] }, type := 3, pos := "law.go:87", after := #[{ on := 1, ground := Ground.data }], guard := none }) rfl (fun K hK => ?_) AllReadyH.nil
              go_simp
              refine (hw13.out 0 (by decide)).mono ?_
              rintro e' W10 ⟨rfl, rfl⟩
              go_wp2_with fail
              refine hK.out _ _ hH9.out (fun hHeld => ?_)
              clear hK K
              try simp only [Act.put, List.setIfInBounds_toArray, List.set_cons_zero, List.set_cons_succ]
              refine wpAnyH_ready (rs := [5]) (by kernel_rfl) (by simp) ?_
              refine AllReadyH.cons (o := { dst := some 137, op := Op.call { callee := Callee.value (Operand.func 25), args := #[Operand.tmp 136], argTypes := #[61] }, type := 3, pos := "law.go:87", after := #[{ on := 4, ground := Ground.data }, { on := 2, ground := Ground.chain }], guard := none }) rfl (fun K hK => ?_) AllReadyH.nil
              go_simp
              refine (hw25.out 0 (by decide)).mono ?_
              rintro e' W10 ⟨rfl, rfl⟩
              go_wp2_with fail
              refine hK.out _ _ hH9.out (fun hHeld => ?_)
              clear hK K
              try simp only [Act.put, List.setIfInBounds_toArray, List.set_cons_zero, List.set_cons_succ]
              refine wpAnyH_take (i := 6) (oi := { dst := some 138, op := Op.binOp BinOp.neq 3 (Operand.tmp 134) (Operand.tmp 137) 3, type := 4, pos := "law.go:87", after := #[{ on := 2, ground := Ground.data }, { on := 5, ground := Ground.data }], guard := none }) (v := ?vv37) rfl (by kernel_rfl) (by kernel_rfl) (by kernel_rfl) (fun _ _ _ h => h) (Or.inl ⟨by rfl, ?hy37⟩) (by assumption) ?_
              case hy37 => (intro w hSw; (try dsimp only at hSw); go_simp; all_goals with_reducible rfl)
              try simp only [Act.put, List.setIfInBounds_toArray, List.set_cons_zero, List.set_cons_succ]
              refine wpAnyH_take (i := 7) (oi := { dst := some 139, op := Op.move (Operand.tmp 138), type := 4, pos := "law.go:87", after := #[{ on := 6, ground := Ground.data }, { on := 5, ground := Ground.chain }], guard := none }) (v := ?vv38) rfl (by kernel_rfl) (by kernel_rfl) (by kernel_rfl) (fun _ _ _ h => h) (Or.inl ⟨by rfl, ?hy38⟩) (by assumption) ?_
              case hy38 => (intro w hSw; (try dsimp only at hSw); go_simp; all_goals with_reducible rfl)
              try simp only [Act.put, List.setIfInBounds_toArray, List.set_cons_zero, List.set_cons_succ]
              refine wpAnyH_take (i := 8) (oi := { dst := some 140, op := Op.indexAddr 60 (Operand.tmp 7) (Operand.const (Value.int IntKind.i64 1)), type := 0, pos := "law.go:87", after := #[{ on := 7, ground := Ground.guard }], guard := some (7, false) }) (v := ?vv39) rfl (by kernel_rfl) (by kernel_rfl) (by kernel_rfl) (fun _ _ _ h => h) (Or.inl ⟨by rfl, ?hy39⟩) (by assumption) ?_
              case hy39 => (intro w hSw; (try dsimp only at hSw); go_simp; all_goals with_reducible rfl)
              try simp only [Act.put, List.setIfInBounds_toArray, List.set_cons_zero, List.set_cons_succ]
              refine wpAnyH_take (i := 9) (oi := { dst := some 141, op := Op.load 23 (Operand.tmp 140), type := 23, pos := "law.go:87", after := #[{ on := 8, ground := Ground.data }, { on := 7, ground := Ground.guard }], guard := some (7, false) }) (v := ?vv40) rfl (by kernel_rfl) (by kernel_rfl) (by kernel_rfl) (fun _ _ _ h => h) (Or.inl ⟨by rfl, ?hy40⟩) (by assumption) ?_
              case hy40 => (intro w hSw; (try dsimp only at hSw); go_simp; all_goals with_reducible rfl)
              try simp only [Act.put, List.setIfInBounds_toArray, List.set_cons_zero, List.set_cons_succ]
              refine wpAnyH_take (i := 11) (oi := { dst := some 143, op := Op.indexAddr 62 (Operand.tmp 8) (Operand.const (Value.int IntKind.i64 1)), type := 0, pos := "law.go:87", after := #[{ on := 7, ground := Ground.guard }], guard := some (7, false) }) (v := ?vv41) rfl (by kernel_rfl) (by kernel_rfl) (by kernel_rfl) (fun _ _ _ h => h) (Or.inl ⟨by rfl, ?hy41⟩) (by assumption) ?_
              case hy41 => (intro w hSw; (try dsimp only at hSw); go_simp; all_goals with_reducible rfl)
              try simp only [Act.put, List.setIfInBounds_toArray, List.set_cons_zero, List.set_cons_succ]
              refine wpAnyH_take (i := 12) (oi := { dst := some 144, op := Op.load 61 (Operand.tmp 143), type := 61, pos := "law.go:87", after := #[{ on := 11, ground := Ground.data }, { on := 7, ground := Ground.guard }], guard := some (7, false) }) (v := ?vv42) rfl (by kernel_rfl) (by kernel_rfl) (by kernel_rfl) (fun _ _ _ h => h) (Or.inl ⟨by rfl, ?hy42⟩) (by assumption) ?_
              case hy42 => (intro w hSw; (try dsimp only at hSw); go_simp; all_goals with_reducible rfl)
              try simp only [Act.put, List.setIfInBounds_toArray, List.set_cons_zero, List.set_cons_succ]
              refine wpAnyH_ready (rs := [10]) (by kernel_rfl) (by simp) ?_
              refine AllReadyH.cons (o := { dst := some 142, op := Op.call { callee := Callee.value (Operand.func 13), args := #[Operand.tmp 141], argTypes := #[23] }, type := 3, pos := "law.go:87", after := #[{ on := 9, ground := Ground.data }, { on := 7, ground := Ground.chain }, { on := 7, ground := Ground.guard }], guard := some (7, false) }) rfl (fun K hK => ?_) AllReadyH.nil
              go_simp
              refine (hw13.out 1 (by decide)).mono ?_
              rintro e' W10 ⟨rfl, rfl⟩
              go_wp2_with fail
              refine hK.out _ _ hH9.out (fun hHeld => ?_)
              clear hK K
              try simp only [Act.put, List.setIfInBounds_toArray, List.set_cons_zero, List.set_cons_succ]
              refine wpAnyH_ready (rs := [13]) (by kernel_rfl) (by simp) ?_
              refine AllReadyH.cons (o := { dst := some 145, op := Op.call { callee := Callee.value (Operand.func 25), args := #[Operand.tmp 144], argTypes := #[61] }, type := 3, pos := "law.go:87", after := #[{ on := 12, ground := Ground.data }, { on := 10, ground := Ground.chain }, { on := 7, ground := Ground.guard }], guard := some (7, false) }) rfl (fun K hK => ?_) AllReadyH.nil
              go_simp
              refine (hw25.out 1 (by decide)).mono ?_
              rintro e' W10 ⟨rfl, rfl⟩
              go_wp2_with fail
              refine hK.out _ _ hH9.out (fun hHeld => ?_)
              clear hK K
              try simp only [Act.put, List.setIfInBounds_toArray, List.set_cons_zero, List.set_cons_succ]
              refine wpAnyH_take (i := 14) (oi := { dst := some 146, op := Op.binOp BinOp.neq 3 (Operand.tmp 142) (Operand.tmp 145) 3, type := 4, pos := "law.go:87", after := #[{ on := 10, ground := Ground.data }, { on := 13, ground := Ground.data }, { on := 7, ground := Ground.guard }], guard := some (7, false) }) (v := ?vv43) rfl (by kernel_rfl) (by kernel_rfl) (by kernel_rfl) (fun _ _ _ h => h) (Or.inl ⟨by rfl, ?hy43⟩) (by assumption) ?_
              case hy43 => (intro w hSw; (try dsimp only at hSw); go_simp; all_goals with_reducible rfl)
              try simp only [Act.put, List.setIfInBounds_toArray, List.set_cons_zero, List.set_cons_succ]
              refine wpAnyH_take (i := 15) (oi := { dst := some 147, op := Op.pick (Operand.tmp 139) (Operand.const (Value.bool true)) (Operand.tmp 146), type := 4, pos := "law.go:87", after := #[{ on := 7, ground := Ground.data }, { on := 14, ground := Ground.data }], guard := none }) (v := ?vv44) rfl (by kernel_rfl) (by kernel_rfl) (by kernel_rfl) (fun _ _ _ h => h) (Or.inl ⟨by rfl, ?hy44⟩) (by assumption) ?_
              case hy44 => (intro w hSw; (try dsimp only at hSw); go_simp; all_goals with_reducible rfl)
              try simp only [Act.put, List.setIfInBounds_toArray, List.set_cons_zero, List.set_cons_succ]
              refine wpAnyH_done (by kernel_rfl) ?_ _
              go_wp2_with fail
              go_roundw
              case rel => exact ⟨j + 1, G, H, V', S', R', hlt, by simp, hQ.out, hlq.out⟩
              case measure => simp [intOf]; omega
            by_cases h2 : kind = 2
            · subst h2
              clear h1
              have hal := (hPl.out.rel 0 (by decide)).next
              have hrl := rnext_len (R 0)
              obtain ⟨r, hr⟩ : ∃ r, nextS (S 0) = r := ⟨_, rfl⟩
              obtain ⟨t, ht⟩ : ∃ t, rnextS (R 0) = t := ⟨_, rfl⟩
              rw [hr, ht] at hal
              rw [ht] at hrl
              obtain ⟨⟨f, ps⟩, ok, c, x, S2⟩ := r
              obtain ⟨⟨f', ps'⟩, ok', c', x', R2⟩ := t
              obtain ⟨e1, e2, e3, e4, hrel2⟩ := hal
              cases e1
              cases e2
              cases e3
              cases e4
              have hn12 : Hid (Calls Tryd.prog 12 #[.pointer (some ⟨G 0, 0, none⟩)] wr fun e W' => ∃ pb pl pc v', e = .returned (.tuple #[.agg #[.int .i64 f.ty, .int .i64 f.fl, .int .i64 f.st, .string f.data, .int .i64 f.pad, .int .i64 f.dep, .bool f.excl, .int .i64 f.wt, .int .i64 f.code, .int .i64 f.last, .slice pb pl pc], .bool ok, .agg #[.int .i64 c, .int .i64 x]]) ∧ PRow W' (.slice pb pl pc) ps ∧ All w W' ((fedL G V S).set 0 (G 0, v', S2)) ∧ Kt wr W') := by
                refine (next_all hPl.out.all 0 (fedL_get G V S 0 (by decide)) _ hr).mono ?_
                rintro e W' ⟨pb, pl, pc, v', rfl, k1, -, k2, k3⟩
                exact ⟨pb, pl, pc, v', rfl, k1, k2, k3⟩
              have hn23 : Hid (∀ W, RF W (H 0) (R 0) → Calls Tryd.prog 23 #[.pointer (some ⟨H 0, 0, none⟩)] W fun e W' => ∃ qb ql qc, e = .returned (.tuple #[.agg #[.int .i64 f.ty, .int .i64 f.fl, .int .i64 f.st, .string f.data, .int .i64 f.pad, .int .i64 f.dep, .bool f.excl, .int .i64 f.wt, .int .i64 f.code, .int .i64 f.last, .slice qb ql qc], .bool ok, .agg #[.int .i64 c, .int .i64 x]]) ∧ PRow W' (.slice qb ql qc) ps ∧ RF W' (H 0) R2 ∧ Kp (H 0) W W') := fun W h => by
                refine (rnext_any W (H 0) (R 0) h).mono ?_
                rintro e W' hp
                rw [ht] at hp
                obtain ⟨pb, pl, pc, rfl, k1, -, k2, k3⟩ := hp
                exact ⟨pb, pl, pc, rfl, k1, k2, k3⟩
              have hbd : Hid (∀ q, q < 2 → ((upd S 0 S2) q).wait.length ≤ (j + 1) * 1118576) := bound_next (S := S) 0 (by decide) S2 (by have q1 : S2.wait.length = R2.b.size := hrel2.len; have q2 := (hPl.out.rel 0 (by decide)).len; have q3 : R2.b.size ≤ (R 0).b.size := hrl; omega) hlen.out
              replace hrel2 : Hid _ := hrel2
              clear hr ht hrl hlen
              go_wp2_with fail
              refine hn12.out.mono ?_
              rintro e W1 ⟨pb, pl, pc, v', rfl, hp, hA, kt⟩
              have hA1 : Hid (All w ((W1.alloc (.cells #[.int .i64 f.ty, .int .i64 f.fl, .int .i64 f.st, .string f.data, .int .i64 f.pad, .int .i64 f.dep, .bool f.excl, .int .i64 f.wt, .int .i64 f.code, .int .i64 f.last, .slice pb pl pc] 28)).alloc (.cells #[.int .i64 c, .int .i64 x] 30)) _) := (hA.alloc _).alloc _
              have kt1 : Kt W1 ((W1.alloc (.cells #[.int .i64 f.ty, .int .i64 f.fl, .int .i64 f.st, .string f.data, .int .i64 f.pad, .int .i64 f.dep, .bool f.excl, .int .i64 f.wt, .int .i64 f.code, .int .i64 f.last, .slice pb pl pc] 28)).alloc (.cells #[.int .i64 c, .int .i64 x] 30)) := (Kt.alloc _ _).trans (Kt.alloc _ _)
              have kt2 : Hid (Kt wr ((W1.alloc (.cells #[.int .i64 f.ty, .int .i64 f.fl, .int .i64 f.st, .string f.data, .int .i64 f.pad, .int .i64 f.dep, .bool f.excl, .int .i64 f.wt, .int .i64 f.code, .int .i64 f.last, .slice pb pl pc] 28)).alloc (.cells #[.int .i64 c, .int .i64 x] 30))) := kt.trans kt1
              have L2' : ((W1.alloc (.cells #[.int .i64 f.ty, .int .i64 f.fl, .int .i64 f.st, .string f.data, .int .i64 f.pad, .int .i64 f.dep, .bool f.excl, .int .i64 f.wt, .int .i64 f.code, .int .i64 f.last, .slice pb pl pc] 28)).alloc (.cells #[.int .i64 c, .int .i64 x] 30)).cell? ⟨a7 + 1, 0, none⟩ = some (.pointer (some ⟨H 0, 0, none⟩)) := by rw [cell_of_row _ _ _ _ _ _ (kt2.out _ _ _ hPl.out.r (by decide) (by decide))]; rfl
              have b13 : Hid (((W1.alloc (.cells #[.int .i64 f.ty, .int .i64 f.fl, .int .i64 f.st, .string f.data, .int .i64 f.pad, .int .i64 f.dep, .bool f.excl, .int .i64 f.wt, .int .i64 f.code, .int .i64 f.last, .slice pb pl pc] 28)).alloc (.cells #[.int .i64 c, .int .i64 x] 30)).heap[W1.heap.size]? = some (.cells #[.int .i64 f.ty, .int .i64 f.fl, .int .i64 f.st, .string f.data, .int .i64 f.pad, .int .i64 f.dep, .bool f.excl, .int .i64 f.wt, .int .i64 f.code, .int .i64 f.last, .slice pb pl pc] 28 (0, 0))) := by
                show _ = _
                simp only [heap_al, size_al]
                rw [if_neg (by omega), if_pos trivial]
              have b15 : Hid (((W1.alloc (.cells #[.int .i64 f.ty, .int .i64 f.fl, .int .i64 f.st, .string f.data, .int .i64 f.pad, .int .i64 f.dep, .bool f.excl, .int .i64 f.wt, .int .i64 f.code, .int .i64 f.last, .slice pb pl pc] 28)).alloc (.cells #[.int .i64 c, .int .i64 x] 30)).heap[W1.heap.size + 1]? = some (.cells #[.int .i64 c, .int .i64 x] 30 (0, 0))) := by
                show _ = _
                simp only [heap_al, size_al]
                rw [if_pos trivial]
              have hp1 : Hid (PRow ((W1.alloc (.cells #[.int .i64 f.ty, .int .i64 f.fl, .int .i64 f.st, .string f.data, .int .i64 f.pad, .int .i64 f.dep, .bool f.excl, .int .i64 f.wt, .int .i64 f.code, .int .i64 f.last, .slice pb pl pc] 28)).alloc (.cells #[.int .i64 c, .int .i64 x] 30)) (.slice pb pl pc) ps) := kt1.prow hp
              clear hA kt kt1 hp hn12 L1 L2 C0 C1 C2 C3 C4
              go_wp2_with fail
              refine (hn23.out _ (kt2.out _ _ _ (hPl.out.rf 0 (by decide)) (by decide) (by decide))).mono ?_
              rintro e W3 ⟨qb, ql, qc, rfl, hq, hR, hk⟩
              have hPl3 := hPl.out.step 0 (by decide) hA1.out kt2.out hR hk hrel2.out
              have hRi : RF ((W1.alloc (.cells #[.int .i64 f.ty, .int .i64 f.fl, .int .i64 f.st, .string f.data, .int .i64 f.pad, .int .i64 f.dep, .bool f.excl, .int .i64 f.wt, .int .i64 f.code, .int .i64 f.last, .slice pb pl pc] 28)).alloc (.cells #[.int .i64 c, .int .i64 x] 30)) (H 0) (R 0) := kt2.out _ _ _ (hPl.out.rf 0 (by decide)) (by decide) (by decide)
              have b13' : FB W3 W1.heap.size f (.slice pb pl pc) := kp_keep hRi hk b13.out (by decide)
              have b15' := kp_keep hRi hk b15.out (by decide)
              have hp3 : PRow W3 (.slice pb pl pc) ps := kp_prow hRi hk hp1.out
              have kt3 : Kt W3 ((W3.alloc (.cells #[.int .i64 f.ty, .int .i64 f.fl, .int .i64 f.st, .string f.data, .int .i64 f.pad, .int .i64 f.dep, .bool f.excl, .int .i64 f.wt, .int .i64 f.code, .int .i64 f.last, .slice qb ql qc] 28)).alloc (.cells #[.int .i64 c, .int .i64 x] 30)) := (Kt.alloc _ _).trans (Kt.alloc _ _)
              have hPl4 : Hid (Pl w ((W3.alloc (.cells #[.int .i64 f.ty, .int .i64 f.fl, .int .i64 f.st, .string f.data, .int .i64 f.pad, .int .i64 f.dep, .bool f.excl, .int .i64 f.wt, .int .i64 f.code, .int .i64 f.last, .slice qb ql qc] 28)).alloc (.cells #[.int .i64 c, .int .i64 x] 30)) a7 (a7 + 1) G H _ _ _) := (hPl3.alloc _).alloc _
              obtain ⟨z0, z1, z2, z3, z4, z5, z6, z7, z8, z9, z10⟩ := (kt3.fb b13').cells
              obtain ⟨y0, y1, -, -⟩ := box_cells (kt3.box b15')
              have h19 : Hid (Calls Tryd.prog 19 #[.agg #[.int .i64 f.ty, .int .i64 f.fl, .int .i64 f.st, .string f.data, .int .i64 f.pad, .int .i64 f.dep, .bool f.excl, .int .i64 f.wt, .int .i64 f.code, .int .i64 f.last, .slice pb pl pc], .agg #[.int .i64 f.ty, .int .i64 f.fl, .int .i64 f.st, .string f.data, .int .i64 f.pad, .int .i64 f.dep, .bool f.excl, .int .i64 f.wt, .int .i64 f.code, .int .i64 f.last, .slice qb ql qc]] ((W3.alloc (.cells #[.int .i64 f.ty, .int .i64 f.fl, .int .i64 f.st, .string f.data, .int .i64 f.pad, .int .i64 f.dep, .bool f.excl, .int .i64 f.wt, .int .i64 f.code, .int .i64 f.last, .slice qb ql qc] 28)).alloc (.cells #[.int .i64 c, .int .i64 x] 30)) fun e W' => e = .returned (.bool true) ∧ Below ((W3.alloc (.cells #[.int .i64 f.ty, .int .i64 f.fl, .int .i64 f.st, .string f.data, .int .i64 f.pad, .int .i64 f.dep, .bool f.excl, .int .i64 f.wt, .int .i64 f.code, .int .i64 f.last, .slice qb ql qc] 28)).alloc (.cells #[.int .i64 c, .int .i64 x] 30)).heap.size ((W3.alloc (.cells #[.int .i64 f.ty, .int .i64 f.fl, .int .i64 f.st, .string f.data, .int .i64 f.pad, .int .i64 f.dep, .bool f.excl, .int .i64 f.wt, .int .i64 f.code, .int .i64 f.last, .slice qb ql qc] 28)).alloc (.cells #[.int .i64 c, .int .i64 x] 30)) W') := same_eq f ((W3.alloc (.cells #[.int .i64 f.ty, .int .i64 f.fl, .int .i64 f.st, .string f.data, .int .i64 f.pad, .int .i64 f.dep, .bool f.excl, .int .i64 f.wt, .int .i64 f.code, .int .i64 f.last, .slice qb ql qc] 28)).alloc (.cells #[.int .i64 c, .int .i64 x] 30)) pb pl pc qb ql qc ps (kt3.prow hp3) (kt3.prow hq)
              obtain ⟨a13, ha13⟩ : ∃ a13, W1.heap.size = a13 := ⟨_, rfl⟩
              rw [ha13] at z0 z1 z2 z3 z4 z5 z6 z7 z8 z9 z10 y0 y1 ⊢
              clear hRi b13 b15 b13' b15' hp1 hp3 hq hR hk kt2 kt3 hPl3 hA1 hn23 hPl L2' hrel2 ha13
              go_wp2_with fail
              refine h19.out.mono ?_
              rintro e W5 ⟨rfl, hb5⟩
              have hq5 := hPl4.out.later hb5
              obtain ⟨V', S', R', hQ, hlq⟩ : ∃ V' S' R', Hid (Pl w W5 a7 (a7 + 1) G H V' S' R') ∧ Hid (∀ i, i < 2 → (S' i).wait.length ≤ (j + 1) * 1118576) := ⟨_, _, _, hq5, hbd.out⟩
              clear hq5 hbd hPl4 hb5 h19 z0 z1 z2 z3 z4 z5 z6 z7 z8 z9 z10 y0 y1
              go_wp2_with fail
              replace hQ : Pl w _ a7 (a7 + 1) G H V' S' R' := hQ.out.drew
              refine wp_region_held_drew (S := fun W => W.cell? ⟨a7, 0, none⟩ = some (.pointer (some ⟨G 0, 0, none⟩)) ∧ W.cell? ⟨a7, 1, none⟩ = some (.pointer (some ⟨G 1, 0, none⟩)) ∧ W.cell? ⟨a7 + 1, 0, none⟩ = some (.pointer (some ⟨H 0, 0, none⟩)) ∧ W.cell? ⟨a7 + 1, 1, none⟩ = some (.pointer (some ⟨H 1, 0, none⟩))) (by kernel_rfl) ⟨(hQ.cells 0 (by decide)).1, (hQ.cells 1 (by decide)).1, (hQ.cells 0 (by decide)).2, (hQ.cells 1 (by decide)).2⟩ (fun hHeld => ?_)
              generalize hWg : World.drew _ = W9 at hQ hHeld ⊢
              clear hWg
              obtain ⟨Z, hZ⟩ : ∃ Z : Nat → Nat, ∀ q, q < 2 → (S' q).wait.length = Z q ∧ (R' q).b.size = Z q := ⟨fun q => (R' q).b.size, fun q hq => ⟨(hQ.rel q hq).len, rfl⟩⟩
              have hw13 : Hid (∀ q, q < 2 → Calls Tryd.prog 13 #[.pointer (some ⟨G q, 0, none⟩)] W9 fun e W' => e = .returned (.int .i64 (Z q : Int)) ∧ W' = W9) := fun q hq => by
                have := wait_all hQ.all q (fedL_get G V' S' q hq)
                rw [(hZ q hq).1] at this
                exact this
              have hw25 : Hid (∀ q, q < 2 → Calls Tryd.prog 25 #[.pointer (some ⟨H q, 0, none⟩)] W9 fun e W' => e = .returned (.int .i64 (Z q : Int)) ∧ W' = W9) := fun q hq => by
                have := rwait_any W9 (H q) (R' q) (hQ.rf q hq)
                rw [(hZ q hq).2] at this
                exact this
              replace hQ : Hid _ := hQ
              clear hZ
              have hH9 : Hid ((fun W => W.cell? ⟨a7, 0, none⟩ = some (.pointer (some ⟨G 0, 0, none⟩)) ∧ W.cell? ⟨a7, 1, none⟩ = some (.pointer (some ⟨G 1, 0, none⟩)) ∧ W.cell? ⟨a7 + 1, 0, none⟩ = some (.pointer (some ⟨H 0, 0, none⟩)) ∧ W.cell? ⟨a7 + 1, 1, none⟩ = some (.pointer (some ⟨H 1, 0, none⟩))) W9) := ⟨(hQ.out.cells 0 (by decide)).1, (hQ.out.cells 1 (by decide)).1, (hQ.out.cells 0 (by decide)).2, (hQ.out.cells 1 (by decide)).2⟩
              refine wpAnyH_take (i := 0) (oi := { dst := some 132, op := Op.indexAddr 60 (Operand.tmp 7) (Operand.const (Value.int IntKind.i64 0)), type := 0, pos := "law.go:87", after := #[], guard := none }) (v := ?vv45) rfl (by kernel_rfl) (by kernel_rfl) (by kernel_rfl) (fun _ _ _ h => h) (Or.inl ⟨by rfl, ?hy45⟩) (by assumption) ?_
              case hy45 => (intro w hSw; (try dsimp only at hSw); go_simp; all_goals with_reducible rfl)
              try simp only [Act.put, List.setIfInBounds_toArray, List.set_cons_zero, List.set_cons_succ]
              refine wpAnyH_take (i := 1) (oi := { dst := some 133, op := Op.load 23 (Operand.tmp 132), type := 23, pos := "law.go:87", after := #[{ on := 0, ground := Ground.data }], guard := none }) (v := ?vv46) rfl (by kernel_rfl) (by kernel_rfl) (by kernel_rfl) (fun _ _ _ h => h) (Or.inl ⟨by rfl, ?hy46⟩) (by assumption) ?_
              case hy46 => (intro w hSw; (try dsimp only at hSw); go_simp; all_goals with_reducible rfl)
              try simp only [Act.put, List.setIfInBounds_toArray, List.set_cons_zero, List.set_cons_succ]
              refine wpAnyH_take (i := 3) (oi := { dst := some 135, op := Op.indexAddr 62 (Operand.tmp 8) (Operand.const (Value.int IntKind.i64 0)), type := 0, pos := "law.go:87", after := #[], guard := none }) (v := ?vv47) rfl (by kernel_rfl) (by kernel_rfl) (by kernel_rfl) (fun _ _ _ h => h) (Or.inl ⟨by rfl, ?hy47⟩) (by assumption) ?_
              case hy47 => (intro w hSw; (try dsimp only at hSw); go_simp; all_goals with_reducible rfl)
              try simp only [Act.put, List.setIfInBounds_toArray, List.set_cons_zero, List.set_cons_succ]
              refine wpAnyH_take (i := 4) (oi := { dst := some 136, op := Op.load 61 (Operand.tmp 135), type := 61, pos := "law.go:87", after := #[{ on := 3, ground := Ground.data }], guard := none }) (v := ?vv48) rfl (by kernel_rfl) (by kernel_rfl) (by kernel_rfl) (fun _ _ _ h => h) (Or.inl ⟨by rfl, ?hy48⟩) (by assumption) ?_
              case hy48 => (intro w hSw; (try dsimp only at hSw); go_simp; all_goals with_reducible rfl)
              try simp only [Act.put, List.setIfInBounds_toArray, List.set_cons_zero, List.set_cons_succ]
              refine wpAnyH_ready (rs := [2]) (by kernel_rfl) (by simp) ?_
              refine AllReadyH.cons (o := { dst := some 134, op := Op.call { callee := Callee.value (Operand.func 13), args := #[Operand.tmp 133], argTypes := #[23] }, type := 3, pos := "law.go:87", after := #[{ on := 1, ground := Ground.data }], guard := none }) rfl (fun K hK => ?_) AllReadyH.nil
              go_simp
              refine (hw13.out 0 (by decide)).mono ?_
              rintro e' W10 ⟨rfl, rfl⟩
              go_wp2_with fail
              refine hK.out _ _ hH9.out (fun hHeld => ?_)
              clear hK K
              try simp only [Act.put, List.setIfInBounds_toArray, List.set_cons_zero, List.set_cons_succ]
              refine wpAnyH_ready (rs := [5]) (by kernel_rfl) (by simp) ?_
              refine AllReadyH.cons (o := { dst := some 137, op := Op.call { callee := Callee.value (Operand.func 25), args := #[Operand.tmp 136], argTypes := #[61] }, type := 3, pos := "law.go:87", after := #[{ on := 4, ground := Ground.data }, { on := 2, ground := Ground.chain }], guard := none }) rfl (fun K hK => ?_) AllReadyH.nil
              go_simp
              refine (hw25.out 0 (by decide)).mono ?_
              rintro e' W10 ⟨rfl, rfl⟩
              go_wp2_with fail
              refine hK.out _ _ hH9.out (fun hHeld => ?_)
              clear hK K
              try simp only [Act.put, List.setIfInBounds_toArray, List.set_cons_zero, List.set_cons_succ]
              refine wpAnyH_take (i := 6) (oi := { dst := some 138, op := Op.binOp BinOp.neq 3 (Operand.tmp 134) (Operand.tmp 137) 3, type := 4, pos := "law.go:87", after := #[{ on := 2, ground := Ground.data }, { on := 5, ground := Ground.data }], guard := none }) (v := ?vv49) rfl (by kernel_rfl) (by kernel_rfl) (by kernel_rfl) (fun _ _ _ h => h) (Or.inl ⟨by rfl, ?hy49⟩) (by assumption) ?_
              case hy49 => (intro w hSw; (try dsimp only at hSw); go_simp; all_goals with_reducible rfl)
              try simp only [Act.put, List.setIfInBounds_toArray, List.set_cons_zero, List.set_cons_succ]
              refine wpAnyH_take (i := 7) (oi := { dst := some 139, op := Op.move (Operand.tmp 138), type := 4, pos := "law.go:87", after := #[{ on := 6, ground := Ground.data }, { on := 5, ground := Ground.chain }], guard := none }) (v := ?vv50) rfl (by kernel_rfl) (by kernel_rfl) (by kernel_rfl) (fun _ _ _ h => h) (Or.inl ⟨by rfl, ?hy50⟩) (by assumption) ?_
              case hy50 => (intro w hSw; (try dsimp only at hSw); go_simp; all_goals with_reducible rfl)
              try simp only [Act.put, List.setIfInBounds_toArray, List.set_cons_zero, List.set_cons_succ]
              refine wpAnyH_take (i := 8) (oi := { dst := some 140, op := Op.indexAddr 60 (Operand.tmp 7) (Operand.const (Value.int IntKind.i64 1)), type := 0, pos := "law.go:87", after := #[{ on := 7, ground := Ground.guard }], guard := some (7, false) }) (v := ?vv51) rfl (by kernel_rfl) (by kernel_rfl) (by kernel_rfl) (fun _ _ _ h => h) (Or.inl ⟨by rfl, ?hy51⟩) (by assumption) ?_
              case hy51 => (intro w hSw; (try dsimp only at hSw); go_simp; all_goals with_reducible rfl)
              try simp only [Act.put, List.setIfInBounds_toArray, List.set_cons_zero, List.set_cons_succ]
              refine wpAnyH_take (i := 9) (oi := { dst := some 141, op := Op.load 23 (Operand.tmp 140), type := 23, pos := "law.go:87", after := #[{ on := 8, ground := Ground.data }, { on := 7, ground := Ground.guard }], guard := some (7, false) }) (v := ?vv52) rfl (by kernel_rfl) (by kernel_rfl) (by kernel_rfl) (fun _ _ _ h => h) (Or.inl ⟨by rfl, ?hy52⟩) (by assumption) ?_
              case hy52 => (intro w hSw; (try dsimp only at hSw); go_simp; all_goals with_reducible rfl)
              try simp only [Act.put, List.setIfInBounds_toArray, List.set_cons_zero, List.set_cons_succ]
              refine wpAnyH_take (i := 11) (oi := { dst := some 143, op := Op.indexAddr 62 (Operand.tmp 8) (Operand.const (Value.int IntKind.i64 1)), type := 0, pos := "law.go:87", after := #[{ on := 7, ground := Ground.guard }], guard := some (7, false) }) (v := ?vv53) rfl (by kernel_rfl) (by kernel_rfl) (by kernel_rfl) (fun _ _ _ h => h) (Or.inl ⟨by rfl, ?hy53⟩) (by assumption) ?_
              case hy53 => (intro w hSw; (try dsimp only at hSw); go_simp; all_goals with_reducible rfl)
              try simp only [Act.put, List.setIfInBounds_toArray, List.set_cons_zero, List.set_cons_succ]
              refine wpAnyH_take (i := 12) (oi := { dst := some 144, op := Op.load 61 (Operand.tmp 143), type := 61, pos := "law.go:87", after := #[{ on := 11, ground := Ground.data }, { on := 7, ground := Ground.guard }], guard := some (7, false) }) (v := ?vv54) rfl (by kernel_rfl) (by kernel_rfl) (by kernel_rfl) (fun _ _ _ h => h) (Or.inl ⟨by rfl, ?hy54⟩) (by assumption) ?_
              case hy54 => (intro w hSw; (try dsimp only at hSw); go_simp; all_goals with_reducible rfl)
              try simp only [Act.put, List.setIfInBounds_toArray, List.set_cons_zero, List.set_cons_succ]
              refine wpAnyH_ready (rs := [10]) (by kernel_rfl) (by simp) ?_
              refine AllReadyH.cons (o := { dst := some 142, op := Op.call { callee := Callee.value (Operand.func 13), args := #[Operand.tmp 141], argTypes := #[23] }, type := 3, pos := "law.go:87", after := #[{ on := 9, ground := Ground.data }, { on := 7, ground := Ground.chain }, { on := 7, ground := Ground.guard }], guard := some (7, false) }) rfl (fun K hK => ?_) AllReadyH.nil
              go_simp
              refine (hw13.out 1 (by decide)).mono ?_
              rintro e' W10 ⟨rfl, rfl⟩
              go_wp2_with fail
              refine hK.out _ _ hH9.out (fun hHeld => ?_)
              clear hK K
              try simp only [Act.put, List.setIfInBounds_toArray, List.set_cons_zero, List.set_cons_succ]
              refine wpAnyH_ready (rs := [13]) (by kernel_rfl) (by simp) ?_
              refine AllReadyH.cons (o := { dst := some 145, op := Op.call { callee := Callee.value (Operand.func 25), args := #[Operand.tmp 144], argTypes := #[61] }, type := 3, pos := "law.go:87", after := #[{ on := 12, ground := Ground.data }, { on := 10, ground := Ground.chain }, { on := 7, ground := Ground.guard }], guard := some (7, false) }) rfl (fun K hK => ?_) AllReadyH.nil
              go_simp
              refine (hw25.out 1 (by decide)).mono ?_
              rintro e' W10 ⟨rfl, rfl⟩
              go_wp2_with fail
              refine hK.out _ _ hH9.out (fun hHeld => ?_)
              clear hK K
              try simp only [Act.put, List.setIfInBounds_toArray, List.set_cons_zero, List.set_cons_succ]
              refine wpAnyH_take (i := 14) (oi := { dst := some 146, op := Op.binOp BinOp.neq 3 (Operand.tmp 142) (Operand.tmp 145) 3, type := 4, pos := "law.go:87", after := #[{ on := 10, ground := Ground.data }, { on := 13, ground := Ground.data }, { on := 7, ground := Ground.guard }], guard := some (7, false) }) (v := ?vv55) rfl (by kernel_rfl) (by kernel_rfl) (by kernel_rfl) (fun _ _ _ h => h) (Or.inl ⟨by rfl, ?hy55⟩) (by assumption) ?_
              case hy55 => (intro w hSw; (try dsimp only at hSw); go_simp; all_goals with_reducible rfl)
              try simp only [Act.put, List.setIfInBounds_toArray, List.set_cons_zero, List.set_cons_succ]
              refine wpAnyH_take (i := 15) (oi := { dst := some 147, op := Op.pick (Operand.tmp 139) (Operand.const (Value.bool true)) (Operand.tmp 146), type := 4, pos := "law.go:87", after := #[{ on := 7, ground := Ground.data }, { on := 14, ground := Ground.data }], guard := none }) (v := ?vv56) rfl (by kernel_rfl) (by kernel_rfl) (by kernel_rfl) (fun _ _ _ h => h) (Or.inl ⟨by rfl, ?hy56⟩) (by assumption) ?_
              case hy56 => (intro w hSw; (try dsimp only at hSw); go_simp; all_goals with_reducible rfl)
              try simp only [Act.put, List.setIfInBounds_toArray, List.set_cons_zero, List.set_cons_succ]
              refine wpAnyH_done (by kernel_rfl) ?_ _
              go_wp2_with fail
              go_roundw
              case rel => exact ⟨j + 1, G, H, V', S', R', hlt, by simp, hQ.out, hlq.out⟩
              case measure => simp [intOf]; omega
            by_cases h3 : kind = 3
            · subst h3
              clear h1 h2
              go_wp2_with fail
              replace hPl : Pl w _ a7 (a7 + 1) G H V S R := hPl.out.drew
              have hS1 : Hid (∀ W, Pl w W a7 (a7 + 1) G H V S R → W.cell? ⟨a7, 0, none⟩ = some (.pointer (some ⟨G 0, 0, none⟩)) ∧ W.cell? ⟨g, off + j * 5 + 4, none⟩ = some (.int .i64 N)) := fun W h => ⟨(h.cells 0 (by decide)).1, (hcells.out W h.all.bel).2.2.2.2⟩
              refine wp_region_held_drew (S := fun W => W.cell? ⟨a7, 0, none⟩ = some (.pointer (some ⟨G 0, 0, none⟩)) ∧ W.cell? ⟨g, off + j * 5 + 4, none⟩ = some (.int .i64 N)) (by kernel_rfl) (hS1.out _ hPl) (fun hHeld => ?_)
              generalize hWg : World.drew _ = W1 at hPl hHeld ⊢
              clear hWg C0 C1 C2 C3 C4 L1 L2
              refine wpAnyH_take (i := 0) (oi := { dst := some 114, op := Op.move (Operand.tmp 11), type := 3, pos := "law.go:84", after := #[], guard := none }) (v := ?vv57) rfl (by kernel_rfl) (by kernel_rfl) (by kernel_rfl) (fun _ _ _ h => h) (Or.inl ⟨by rfl, ?hy57⟩) (by assumption) ?_
              case hy57 => (intro w hSw; (try dsimp only at hSw); go_simp; all_goals with_reducible rfl)
              try simp only [Act.put, List.setIfInBounds_toArray, List.set_cons_zero, List.set_cons_succ]
              refine wpAnyH_take (i := 1) (oi := { dst := some 115, op := Op.indexAddr 60 (Operand.tmp 7) (Operand.tmp 114), type := 0, pos := "law.go:84", after := #[{ on := 0, ground := Ground.data }], guard := none }) (v := ?vv58) rfl (by kernel_rfl) (by kernel_rfl) (by kernel_rfl) (fun _ _ _ h => h) (Or.inl ⟨by rfl, ?hy58⟩) (by assumption) ?_
              case hy58 => (intro w hSw; (try dsimp only at hSw); go_simp; all_goals with_reducible rfl)
              try simp only [Act.put, List.setIfInBounds_toArray, List.set_cons_zero, List.set_cons_succ]
              refine wpAnyH_take (i := 2) (oi := { dst := some 116, op := Op.load 23 (Operand.tmp 115), type := 23, pos := "law.go:84", after := #[{ on := 1, ground := Ground.data }], guard := none }) (v := ?vv59) rfl (by kernel_rfl) (by kernel_rfl) (by kernel_rfl) (fun _ _ _ h => h) (Or.inl ⟨by rfl, ?hy59⟩) (by assumption) ?_
              case hy59 => (intro w hSw; (try dsimp only at hSw); go_simp; all_goals with_reducible rfl)
              try simp only [Act.put, List.setIfInBounds_toArray, List.set_cons_zero, List.set_cons_succ]
              refine wpAnyH_take (i := 3) (oi := { dst := some 117, op := Op.move (Operand.tmp 2), type := 59, pos := "law.go:84", after := #[], guard := none }) (v := ?vv60) rfl (by kernel_rfl) (by kernel_rfl) (by kernel_rfl) (fun _ _ _ h => h) (Or.inl ⟨by rfl, ?hy60⟩) (by assumption) ?_
              case hy60 => (intro w hSw; (try dsimp only at hSw); go_simp; all_goals with_reducible rfl)
              try simp only [Act.put, List.setIfInBounds_toArray, List.set_cons_zero, List.set_cons_succ]
              refine wpAnyH_take (i := 4) (oi := { dst := some 118, op := Op.move (Operand.tmp 10), type := 3, pos := "law.go:84", after := #[], guard := none }) (v := ?vv61) rfl (by kernel_rfl) (by kernel_rfl) (by kernel_rfl) (fun _ _ _ h => h) (Or.inl ⟨by rfl, ?hy61⟩) (by assumption) ?_
              case hy61 => (intro w hSw; (try dsimp only at hSw); go_simp; all_goals with_reducible rfl)
              try simp only [Act.put, List.setIfInBounds_toArray, List.set_cons_zero, List.set_cons_succ]
              refine wpAnyH_take (i := 5) (oi := { dst := some 119, op := Op.indexAddr 59 (Operand.tmp 117) (Operand.tmp 118), type := 0, pos := "law.go:84", after := #[{ on := 3, ground := Ground.data }, { on := 4, ground := Ground.data }], guard := none }) (v := ?vv62) rfl (by kernel_rfl) (by kernel_rfl) (by kernel_rfl) (fun _ _ _ h => h) (Or.inl ⟨by rfl, ?hy62⟩) (by assumption) ?_
              case hy62 => (intro w hSw; (try dsimp only at hSw); go_simp; all_goals with_reducible rfl)
              try simp only [Act.put, List.setIfInBounds_toArray, List.set_cons_zero, List.set_cons_succ]
              refine wpAnyH_take (i := 6) (oi := { dst := some 120, op := Op.fieldAddr 65 (Operand.tmp 119) 4, type := 0, pos := "law.go:84", after := #[{ on := 5, ground := Ground.data }], guard := none }) (v := ?vv63) rfl (by kernel_rfl) (by kernel_rfl) (by kernel_rfl) (fun _ _ _ h => h) (Or.inl ⟨by rfl, ?hy63⟩) (by assumption) ?_
              case hy63 => (intro w hSw; (try dsimp only at hSw); go_simp; all_goals with_reducible rfl)
              try simp only [Act.put, List.setIfInBounds_toArray, List.set_cons_zero, List.set_cons_succ]
              refine wpAnyH_take (i := 7) (oi := { dst := some 121, op := Op.load 2 (Operand.tmp 120), type := 2, pos := "law.go:84", after := #[{ on := 6, ground := Ground.data }], guard := none }) (v := ?vv64) rfl (by kernel_rfl) (by kernel_rfl) (by kernel_rfl) (fun _ _ _ h => h) (Or.inl ⟨by rfl, ?hy64⟩) (by assumption) ?_
              case hy64 => (intro w hSw; (try dsimp only at hSw); go_simp; all_goals with_reducible rfl)
              try simp only [Act.put, List.setIfInBounds_toArray, List.set_cons_zero, List.set_cons_succ]
              refine wpAnyH_ready (rs := [8]) (by kernel_rfl) (by simp) ?_
              refine AllReadyH.cons (o := { dst := some 122, op := Op.call { callee := Callee.value (Operand.func 14), args := #[Operand.tmp 116, Operand.tmp 121], argTypes := #[23, 2] }, type := 0, pos := "law.go:84", after := #[{ on := 2, ground := Ground.data }, { on := 7, ground := Ground.data }], guard := none }) rfl (fun K hK => ?_) AllReadyH.nil
              go_simp
              refine (most_all hPl.all 0 (fedL_get G V S 0 (by decide)) N).mono ?_
              rintro e' W2 ⟨rfl, hA, kt⟩
              go_wp2_with fail
              have hh := hcells.out W2 hA.bel
              have hl7 : W2.cell? ⟨a7, 0, none⟩ = some (.pointer (some ⟨G 0, 0, none⟩)) := by rw [cell_of_row _ _ _ _ _ _ (kt _ _ _ hPl.l (by decide) (by decide))]; rfl
              refine hK.out _ _ ⟨hl7, hh.2.2.2.2⟩ (fun hHeld => ?_)
              clear hK K hl7 hh hHeld hS1
              try simp only [Act.put, List.setIfInBounds_toArray, List.set_cons_zero, List.set_cons_succ]
              refine wpAnyH_done (by kernel_rfl) ?_ _
              go_wp2_with fail
              have hd : Below W2.heap.size W2 W2.drew := (Below.refl _ W2).drew
              replace hA : All w W2.drew _ := hA.drew
              replace kt : Kt W1 W2.drew := kt.trans (Kt.below hd)
              have hS2 : W2.drew.cell? ⟨a7 + 1, 0, none⟩ = some (.pointer (some ⟨H 0, 0, none⟩)) ∧ W2.drew.cell? ⟨g, off + j * 5 + 4, none⟩ = some (.int .i64 N) := ⟨by rw [cell_of_row _ _ _ _ _ _ (kt _ _ _ hPl.r (by decide) (by decide))]; rfl, (hcells.out _ hA.bel).2.2.2.2⟩
              clear hd
              refine wp_region_held_drew (S := fun W => W.cell? ⟨a7 + 1, 0, none⟩ = some (.pointer (some ⟨H 0, 0, none⟩)) ∧ W.cell? ⟨g, off + j * 5 + 4, none⟩ = some (.int .i64 N)) (by kernel_rfl) hS2 (fun hHeld => ?_)
              generalize hWg : World.drew _ = W3 at hA kt hS2 hHeld ⊢
              clear hWg
              refine wpAnyH_take (i := 0) (oi := { dst := some 123, op := Op.move (Operand.tmp 11), type := 3, pos := "law.go:85", after := #[], guard := none }) (v := ?vv65) rfl (by kernel_rfl) (by kernel_rfl) (by kernel_rfl) (fun _ _ _ h => h) (Or.inl ⟨by rfl, ?hy65⟩) (by assumption) ?_
              case hy65 => (intro w hSw; (try dsimp only at hSw); go_simp; all_goals with_reducible rfl)
              try simp only [Act.put, List.setIfInBounds_toArray, List.set_cons_zero, List.set_cons_succ]
              refine wpAnyH_take (i := 1) (oi := { dst := some 124, op := Op.indexAddr 62 (Operand.tmp 8) (Operand.tmp 123), type := 0, pos := "law.go:85", after := #[{ on := 0, ground := Ground.data }], guard := none }) (v := ?vv66) rfl (by kernel_rfl) (by kernel_rfl) (by kernel_rfl) (fun _ _ _ h => h) (Or.inl ⟨by rfl, ?hy66⟩) (by assumption) ?_
              case hy66 => (intro w hSw; (try dsimp only at hSw); go_simp; all_goals with_reducible rfl)
              try simp only [Act.put, List.setIfInBounds_toArray, List.set_cons_zero, List.set_cons_succ]
              refine wpAnyH_take (i := 2) (oi := { dst := some 125, op := Op.load 61 (Operand.tmp 124), type := 61, pos := "law.go:85", after := #[{ on := 1, ground := Ground.data }], guard := none }) (v := ?vv67) rfl (by kernel_rfl) (by kernel_rfl) (by kernel_rfl) (fun _ _ _ h => h) (Or.inl ⟨by rfl, ?hy67⟩) (by assumption) ?_
              case hy67 => (intro w hSw; (try dsimp only at hSw); go_simp; all_goals with_reducible rfl)
              try simp only [Act.put, List.setIfInBounds_toArray, List.set_cons_zero, List.set_cons_succ]
              refine wpAnyH_take (i := 3) (oi := { dst := some 126, op := Op.move (Operand.tmp 2), type := 59, pos := "law.go:85", after := #[], guard := none }) (v := ?vv68) rfl (by kernel_rfl) (by kernel_rfl) (by kernel_rfl) (fun _ _ _ h => h) (Or.inl ⟨by rfl, ?hy68⟩) (by assumption) ?_
              case hy68 => (intro w hSw; (try dsimp only at hSw); go_simp; all_goals with_reducible rfl)
              try simp only [Act.put, List.setIfInBounds_toArray, List.set_cons_zero, List.set_cons_succ]
              refine wpAnyH_take (i := 4) (oi := { dst := some 127, op := Op.move (Operand.tmp 10), type := 3, pos := "law.go:85", after := #[], guard := none }) (v := ?vv69) rfl (by kernel_rfl) (by kernel_rfl) (by kernel_rfl) (fun _ _ _ h => h) (Or.inl ⟨by rfl, ?hy69⟩) (by assumption) ?_
              case hy69 => (intro w hSw; (try dsimp only at hSw); go_simp; all_goals with_reducible rfl)
              try simp only [Act.put, List.setIfInBounds_toArray, List.set_cons_zero, List.set_cons_succ]
              refine wpAnyH_take (i := 5) (oi := { dst := some 128, op := Op.indexAddr 59 (Operand.tmp 126) (Operand.tmp 127), type := 0, pos := "law.go:85", after := #[{ on := 3, ground := Ground.data }, { on := 4, ground := Ground.data }], guard := none }) (v := ?vv70) rfl (by kernel_rfl) (by kernel_rfl) (by kernel_rfl) (fun _ _ _ h => h) (Or.inl ⟨by rfl, ?hy70⟩) (by assumption) ?_
              case hy70 => (intro w hSw; (try dsimp only at hSw); go_simp; all_goals with_reducible rfl)
              try simp only [Act.put, List.setIfInBounds_toArray, List.set_cons_zero, List.set_cons_succ]
              refine wpAnyH_take (i := 6) (oi := { dst := some 129, op := Op.fieldAddr 65 (Operand.tmp 128) 4, type := 0, pos := "law.go:85", after := #[{ on := 5, ground := Ground.data }], guard := none }) (v := ?vv71) rfl (by kernel_rfl) (by kernel_rfl) (by kernel_rfl) (fun _ _ _ h => h) (Or.inl ⟨by rfl, ?hy71⟩) (by assumption) ?_
              case hy71 => (intro w hSw; (try dsimp only at hSw); go_simp; all_goals with_reducible rfl)
              try simp only [Act.put, List.setIfInBounds_toArray, List.set_cons_zero, List.set_cons_succ]
              refine wpAnyH_take (i := 7) (oi := { dst := some 130, op := Op.load 2 (Operand.tmp 129), type := 2, pos := "law.go:85", after := #[{ on := 6, ground := Ground.data }], guard := none }) (v := ?vv72) rfl (by kernel_rfl) (by kernel_rfl) (by kernel_rfl) (fun _ _ _ h => h) (Or.inl ⟨by rfl, ?hy72⟩) (by assumption) ?_
              case hy72 => (intro w hSw; (try dsimp only at hSw); go_simp; all_goals with_reducible rfl)
              try simp only [Act.put, List.setIfInBounds_toArray, List.set_cons_zero, List.set_cons_succ]
              refine wpAnyH_ready (rs := [8]) (by kernel_rfl) (by simp) ?_
              refine AllReadyH.cons (o := { dst := some 131, op := Op.call { callee := Callee.value (Operand.func 24), args := #[Operand.tmp 125, Operand.tmp 130], argTypes := #[61, 2] }, type := 0, pos := "law.go:85", after := #[{ on := 2, ground := Ground.data }, { on := 7, ground := Ground.data }], guard := none }) rfl (fun K hK => ?_) AllReadyH.nil
              go_simp
              refine (rmost_any W3 (H 0) (R 0) (kt _ _ _ (hPl.rf 0 (by decide)) (by decide) (by decide)) N).mono ?_
              rintro e' W4 ⟨rfl, hR, hk⟩
              go_wp2_with fail
              have hq := hPl.step 0 (by decide) hA kt hR hk ((hPl.rel 0 (by decide)).most N)
              refine hK.out _ _ ⟨(hq.cells 0 (by decide)).2, (hcells.out _ hq.all.bel).2.2.2.2⟩ (fun hHeld => ?_)
              clear hK K hHeld hS2
              try simp only [Act.put, List.setIfInBounds_toArray, List.set_cons_zero, List.set_cons_succ]
              refine wpAnyH_done (by kernel_rfl) ?_ _
              have hbd := bound_most (S := S) 0 (by decide) N hlen.out
              obtain ⟨V', S', R', hQ, hlq⟩ : ∃ V' S' R', Hid (Pl w W4 a7 (a7 + 1) G H V' S' R') ∧ Hid (∀ i, i < 2 → (S' i).wait.length ≤ (j + 1) * 1118576) := ⟨_, _, _, hq, hbd⟩
              clear hq hbd hA kt hR hk hPl hlen
              go_wp2_with fail
              replace hQ : Pl w _ a7 (a7 + 1) G H V' S' R' := hQ.out.drew
              refine wp_region_held_drew (S := fun W => W.cell? ⟨a7, 0, none⟩ = some (.pointer (some ⟨G 0, 0, none⟩)) ∧ W.cell? ⟨a7, 1, none⟩ = some (.pointer (some ⟨G 1, 0, none⟩)) ∧ W.cell? ⟨a7 + 1, 0, none⟩ = some (.pointer (some ⟨H 0, 0, none⟩)) ∧ W.cell? ⟨a7 + 1, 1, none⟩ = some (.pointer (some ⟨H 1, 0, none⟩))) (by kernel_rfl) ⟨(hQ.cells 0 (by decide)).1, (hQ.cells 1 (by decide)).1, (hQ.cells 0 (by decide)).2, (hQ.cells 1 (by decide)).2⟩ (fun hHeld => ?_)
              generalize hWg : World.drew _ = W9 at hQ hHeld ⊢
              clear hWg
              obtain ⟨Z, hZ⟩ : ∃ Z : Nat → Nat, ∀ q, q < 2 → (S' q).wait.length = Z q ∧ (R' q).b.size = Z q := ⟨fun q => (R' q).b.size, fun q hq => ⟨(hQ.rel q hq).len, rfl⟩⟩
              have hw13 : Hid (∀ q, q < 2 → Calls Tryd.prog 13 #[.pointer (some ⟨G q, 0, none⟩)] W9 fun e W' => e = .returned (.int .i64 (Z q : Int)) ∧ W' = W9) := fun q hq => by
                have := wait_all hQ.all q (fedL_get G V' S' q hq)
                rw [(hZ q hq).1] at this
                exact this
              have hw25 : Hid (∀ q, q < 2 → Calls Tryd.prog 25 #[.pointer (some ⟨H q, 0, none⟩)] W9 fun e W' => e = .returned (.int .i64 (Z q : Int)) ∧ W' = W9) := fun q hq => by
                have := rwait_any W9 (H q) (R' q) (hQ.rf q hq)
                rw [(hZ q hq).2] at this
                exact this
              replace hQ : Hid _ := hQ
              clear hZ
              have hH9 : Hid ((fun W => W.cell? ⟨a7, 0, none⟩ = some (.pointer (some ⟨G 0, 0, none⟩)) ∧ W.cell? ⟨a7, 1, none⟩ = some (.pointer (some ⟨G 1, 0, none⟩)) ∧ W.cell? ⟨a7 + 1, 0, none⟩ = some (.pointer (some ⟨H 0, 0, none⟩)) ∧ W.cell? ⟨a7 + 1, 1, none⟩ = some (.pointer (some ⟨H 1, 0, none⟩))) W9) := ⟨(hQ.out.cells 0 (by decide)).1, (hQ.out.cells 1 (by decide)).1, (hQ.out.cells 0 (by decide)).2, (hQ.out.cells 1 (by decide)).2⟩
              refine wpAnyH_take (i := 0) (oi := { dst := some 132, op := Op.indexAddr 60 (Operand.tmp 7) (Operand.const (Value.int IntKind.i64 0)), type := 0, pos := "law.go:87", after := #[], guard := none }) (v := ?vv73) rfl (by kernel_rfl) (by kernel_rfl) (by kernel_rfl) (fun _ _ _ h => h) (Or.inl ⟨by rfl, ?hy73⟩) (by assumption) ?_
              case hy73 => (intro w hSw; (try dsimp only at hSw); go_simp; all_goals with_reducible rfl)
              try simp only [Act.put, List.setIfInBounds_toArray, List.set_cons_zero, List.set_cons_succ]
              refine wpAnyH_take (i := 1) (oi := { dst := some 133, op := Op.load 23 (Operand.tmp 132), type := 23, pos := "law.go:87", after := #[{ on := 0, ground := Ground.data }], guard := none }) (v := ?vv74) rfl (by kernel_rfl) (by kernel_rfl) (by kernel_rfl) (fun _ _ _ h => h) (Or.inl ⟨by rfl, ?hy74⟩) (by assumption) ?_
              case hy74 => (intro w hSw; (try dsimp only at hSw); go_simp; all_goals with_reducible rfl)
              try simp only [Act.put, List.setIfInBounds_toArray, List.set_cons_zero, List.set_cons_succ]
              refine wpAnyH_take (i := 3) (oi := { dst := some 135, op := Op.indexAddr 62 (Operand.tmp 8) (Operand.const (Value.int IntKind.i64 0)), type := 0, pos := "law.go:87", after := #[], guard := none }) (v := ?vv75) rfl (by kernel_rfl) (by kernel_rfl) (by kernel_rfl) (fun _ _ _ h => h) (Or.inl ⟨by rfl, ?hy75⟩) (by assumption) ?_
              case hy75 => (intro w hSw; (try dsimp only at hSw); go_simp; all_goals with_reducible rfl)
              try simp only [Act.put, List.setIfInBounds_toArray, List.set_cons_zero, List.set_cons_succ]
              refine wpAnyH_take (i := 4) (oi := { dst := some 136, op := Op.load 61 (Operand.tmp 135), type := 61, pos := "law.go:87", after := #[{ on := 3, ground := Ground.data }], guard := none }) (v := ?vv76) rfl (by kernel_rfl) (by kernel_rfl) (by kernel_rfl) (fun _ _ _ h => h) (Or.inl ⟨by rfl, ?hy76⟩) (by assumption) ?_
              case hy76 => (intro w hSw; (try dsimp only at hSw); go_simp; all_goals with_reducible rfl)
              try simp only [Act.put, List.setIfInBounds_toArray, List.set_cons_zero, List.set_cons_succ]
              refine wpAnyH_ready (rs := [2]) (by kernel_rfl) (by simp) ?_
              refine AllReadyH.cons (o := { dst := some 134, op := Op.call { callee := Callee.value (Operand.func 13), args := #[Operand.tmp 133], argTypes := #[23] }, type := 3, pos := "law.go:87", after := #[{ on := 1, ground := Ground.data }], guard := none }) rfl (fun K hK => ?_) AllReadyH.nil
              go_simp
              refine (hw13.out 0 (by decide)).mono ?_
              rintro e' W10 ⟨rfl, rfl⟩
              go_wp2_with fail
              refine hK.out _ _ hH9.out (fun hHeld => ?_)
              clear hK K
              try simp only [Act.put, List.setIfInBounds_toArray, List.set_cons_zero, List.set_cons_succ]
              refine wpAnyH_ready (rs := [5]) (by kernel_rfl) (by simp) ?_
              refine AllReadyH.cons (o := { dst := some 137, op := Op.call { callee := Callee.value (Operand.func 25), args := #[Operand.tmp 136], argTypes := #[61] }, type := 3, pos := "law.go:87", after := #[{ on := 4, ground := Ground.data }, { on := 2, ground := Ground.chain }], guard := none }) rfl (fun K hK => ?_) AllReadyH.nil
              go_simp
              refine (hw25.out 0 (by decide)).mono ?_
              rintro e' W10 ⟨rfl, rfl⟩
              go_wp2_with fail
              refine hK.out _ _ hH9.out (fun hHeld => ?_)
              clear hK K
              try simp only [Act.put, List.setIfInBounds_toArray, List.set_cons_zero, List.set_cons_succ]
              refine wpAnyH_take (i := 6) (oi := { dst := some 138, op := Op.binOp BinOp.neq 3 (Operand.tmp 134) (Operand.tmp 137) 3, type := 4, pos := "law.go:87", after := #[{ on := 2, ground := Ground.data }, { on := 5, ground := Ground.data }], guard := none }) (v := ?vv77) rfl (by kernel_rfl) (by kernel_rfl) (by kernel_rfl) (fun _ _ _ h => h) (Or.inl ⟨by rfl, ?hy77⟩) (by assumption) ?_
              case hy77 => (intro w hSw; (try dsimp only at hSw); go_simp; all_goals with_reducible rfl)
              try simp only [Act.put, List.setIfInBounds_toArray, List.set_cons_zero, List.set_cons_succ]
              refine wpAnyH_take (i := 7) (oi := { dst := some 139, op := Op.move (Operand.tmp 138), type := 4, pos := "law.go:87", after := #[{ on := 6, ground := Ground.data }, { on := 5, ground := Ground.chain }], guard := none }) (v := ?vv78) rfl (by kernel_rfl) (by kernel_rfl) (by kernel_rfl) (fun _ _ _ h => h) (Or.inl ⟨by rfl, ?hy78⟩) (by assumption) ?_
              case hy78 => (intro w hSw; (try dsimp only at hSw); go_simp; all_goals with_reducible rfl)
              try simp only [Act.put, List.setIfInBounds_toArray, List.set_cons_zero, List.set_cons_succ]
              refine wpAnyH_take (i := 8) (oi := { dst := some 140, op := Op.indexAddr 60 (Operand.tmp 7) (Operand.const (Value.int IntKind.i64 1)), type := 0, pos := "law.go:87", after := #[{ on := 7, ground := Ground.guard }], guard := some (7, false) }) (v := ?vv79) rfl (by kernel_rfl) (by kernel_rfl) (by kernel_rfl) (fun _ _ _ h => h) (Or.inl ⟨by rfl, ?hy79⟩) (by assumption) ?_
              case hy79 => (intro w hSw; (try dsimp only at hSw); go_simp; all_goals with_reducible rfl)
              try simp only [Act.put, List.setIfInBounds_toArray, List.set_cons_zero, List.set_cons_succ]
              refine wpAnyH_take (i := 9) (oi := { dst := some 141, op := Op.load 23 (Operand.tmp 140), type := 23, pos := "law.go:87", after := #[{ on := 8, ground := Ground.data }, { on := 7, ground := Ground.guard }], guard := some (7, false) }) (v := ?vv80) rfl (by kernel_rfl) (by kernel_rfl) (by kernel_rfl) (fun _ _ _ h => h) (Or.inl ⟨by rfl, ?hy80⟩) (by assumption) ?_
              case hy80 => (intro w hSw; (try dsimp only at hSw); go_simp; all_goals with_reducible rfl)
              try simp only [Act.put, List.setIfInBounds_toArray, List.set_cons_zero, List.set_cons_succ]
              refine wpAnyH_take (i := 11) (oi := { dst := some 143, op := Op.indexAddr 62 (Operand.tmp 8) (Operand.const (Value.int IntKind.i64 1)), type := 0, pos := "law.go:87", after := #[{ on := 7, ground := Ground.guard }], guard := some (7, false) }) (v := ?vv81) rfl (by kernel_rfl) (by kernel_rfl) (by kernel_rfl) (fun _ _ _ h => h) (Or.inl ⟨by rfl, ?hy81⟩) (by assumption) ?_
              case hy81 => (intro w hSw; (try dsimp only at hSw); go_simp; all_goals with_reducible rfl)
              try simp only [Act.put, List.setIfInBounds_toArray, List.set_cons_zero, List.set_cons_succ]
              refine wpAnyH_take (i := 12) (oi := { dst := some 144, op := Op.load 61 (Operand.tmp 143), type := 61, pos := "law.go:87", after := #[{ on := 11, ground := Ground.data }, { on := 7, ground := Ground.guard }], guard := some (7, false) }) (v := ?vv82) rfl (by kernel_rfl) (by kernel_rfl) (by kernel_rfl) (fun _ _ _ h => h) (Or.inl ⟨by rfl, ?hy82⟩) (by assumption) ?_
              case hy82 => (intro w hSw; (try dsimp only at hSw); go_simp; all_goals with_reducible rfl)
              try simp only [Act.put, List.setIfInBounds_toArray, List.set_cons_zero, List.set_cons_succ]
              refine wpAnyH_ready (rs := [10]) (by kernel_rfl) (by simp) ?_
              refine AllReadyH.cons (o := { dst := some 142, op := Op.call { callee := Callee.value (Operand.func 13), args := #[Operand.tmp 141], argTypes := #[23] }, type := 3, pos := "law.go:87", after := #[{ on := 9, ground := Ground.data }, { on := 7, ground := Ground.chain }, { on := 7, ground := Ground.guard }], guard := some (7, false) }) rfl (fun K hK => ?_) AllReadyH.nil
              go_simp
              refine (hw13.out 1 (by decide)).mono ?_
              rintro e' W10 ⟨rfl, rfl⟩
              go_wp2_with fail
              refine hK.out _ _ hH9.out (fun hHeld => ?_)
              clear hK K
              try simp only [Act.put, List.setIfInBounds_toArray, List.set_cons_zero, List.set_cons_succ]
              refine wpAnyH_ready (rs := [13]) (by kernel_rfl) (by simp) ?_
              refine AllReadyH.cons (o := { dst := some 145, op := Op.call { callee := Callee.value (Operand.func 25), args := #[Operand.tmp 144], argTypes := #[61] }, type := 3, pos := "law.go:87", after := #[{ on := 12, ground := Ground.data }, { on := 10, ground := Ground.chain }, { on := 7, ground := Ground.guard }], guard := some (7, false) }) rfl (fun K hK => ?_) AllReadyH.nil
              go_simp
              refine (hw25.out 1 (by decide)).mono ?_
              rintro e' W10 ⟨rfl, rfl⟩
              go_wp2_with fail
              refine hK.out _ _ hH9.out (fun hHeld => ?_)
              clear hK K
              try simp only [Act.put, List.setIfInBounds_toArray, List.set_cons_zero, List.set_cons_succ]
              refine wpAnyH_take (i := 14) (oi := { dst := some 146, op := Op.binOp BinOp.neq 3 (Operand.tmp 142) (Operand.tmp 145) 3, type := 4, pos := "law.go:87", after := #[{ on := 10, ground := Ground.data }, { on := 13, ground := Ground.data }, { on := 7, ground := Ground.guard }], guard := some (7, false) }) (v := ?vv83) rfl (by kernel_rfl) (by kernel_rfl) (by kernel_rfl) (fun _ _ _ h => h) (Or.inl ⟨by rfl, ?hy83⟩) (by assumption) ?_
              case hy83 => (intro w hSw; (try dsimp only at hSw); go_simp; all_goals with_reducible rfl)
              try simp only [Act.put, List.setIfInBounds_toArray, List.set_cons_zero, List.set_cons_succ]
              refine wpAnyH_take (i := 15) (oi := { dst := some 147, op := Op.pick (Operand.tmp 139) (Operand.const (Value.bool true)) (Operand.tmp 146), type := 4, pos := "law.go:87", after := #[{ on := 7, ground := Ground.data }, { on := 14, ground := Ground.data }], guard := none }) (v := ?vv84) rfl (by kernel_rfl) (by kernel_rfl) (by kernel_rfl) (fun _ _ _ h => h) (Or.inl ⟨by rfl, ?hy84⟩) (by assumption) ?_
              case hy84 => (intro w hSw; (try dsimp only at hSw); go_simp; all_goals with_reducible rfl)
              try simp only [Act.put, List.setIfInBounds_toArray, List.set_cons_zero, List.set_cons_succ]
              refine wpAnyH_done (by kernel_rfl) ?_ _
              go_wp2_with fail
              go_roundw
              case rel => exact ⟨j + 1, G, H, V', S', R', hlt, by simp, hQ.out, hlq.out⟩
              case measure => simp [intOf]; omega
            have k1 : (kind == 1) = false := by simpa using h1
            have k2 : (kind == 2) = false := by simpa using h2
            have k3 : (kind == 3) = false := by simpa using h3
            clear h1 h2 h3
            replace hlen : Hid (∀ i, i < 2 → (S i).wait.length ≤ (j + 1) * 1118576) := fun i hi => Nat.le_trans (hlen.out i hi) (Nat.mul_le_mul_right _ (Nat.le_succ _))
            obtain ⟨V', S', R', hQ, hlq⟩ : ∃ V' S' R', Hid (Pl w wr a7 (a7 + 1) G H V' S' R') ∧ Hid (∀ i, i < 2 → (S' i).wait.length ≤ (j + 1) * 1118576) := ⟨_, _, _, hPl.out, hlen.out⟩
            clear hPl hlen
            go_wp2_with fail
            replace hQ : Pl w _ a7 (a7 + 1) G H V' S' R' := hQ.out.drew
            refine wp_region_held_drew (S := fun W => W.cell? ⟨a7, 0, none⟩ = some (.pointer (some ⟨G 0, 0, none⟩)) ∧ W.cell? ⟨a7, 1, none⟩ = some (.pointer (some ⟨G 1, 0, none⟩)) ∧ W.cell? ⟨a7 + 1, 0, none⟩ = some (.pointer (some ⟨H 0, 0, none⟩)) ∧ W.cell? ⟨a7 + 1, 1, none⟩ = some (.pointer (some ⟨H 1, 0, none⟩))) (by kernel_rfl) ⟨(hQ.cells 0 (by decide)).1, (hQ.cells 1 (by decide)).1, (hQ.cells 0 (by decide)).2, (hQ.cells 1 (by decide)).2⟩ (fun hHeld => ?_)
            generalize hWg : World.drew _ = W9 at hQ hHeld ⊢
            clear hWg
            obtain ⟨Z, hZ⟩ : ∃ Z : Nat → Nat, ∀ q, q < 2 → (S' q).wait.length = Z q ∧ (R' q).b.size = Z q := ⟨fun q => (R' q).b.size, fun q hq => ⟨(hQ.rel q hq).len, rfl⟩⟩
            have hw13 : Hid (∀ q, q < 2 → Calls Tryd.prog 13 #[.pointer (some ⟨G q, 0, none⟩)] W9 fun e W' => e = .returned (.int .i64 (Z q : Int)) ∧ W' = W9) := fun q hq => by
              have := wait_all hQ.all q (fedL_get G V' S' q hq)
              rw [(hZ q hq).1] at this
              exact this
            have hw25 : Hid (∀ q, q < 2 → Calls Tryd.prog 25 #[.pointer (some ⟨H q, 0, none⟩)] W9 fun e W' => e = .returned (.int .i64 (Z q : Int)) ∧ W' = W9) := fun q hq => by
              have := rwait_any W9 (H q) (R' q) (hQ.rf q hq)
              rw [(hZ q hq).2] at this
              exact this
            replace hQ : Hid _ := hQ
            clear hZ
            have hH9 : Hid ((fun W => W.cell? ⟨a7, 0, none⟩ = some (.pointer (some ⟨G 0, 0, none⟩)) ∧ W.cell? ⟨a7, 1, none⟩ = some (.pointer (some ⟨G 1, 0, none⟩)) ∧ W.cell? ⟨a7 + 1, 0, none⟩ = some (.pointer (some ⟨H 0, 0, none⟩)) ∧ W.cell? ⟨a7 + 1, 1, none⟩ = some (.pointer (some ⟨H 1, 0, none⟩))) W9) := ⟨(hQ.out.cells 0 (by decide)).1, (hQ.out.cells 1 (by decide)).1, (hQ.out.cells 0 (by decide)).2, (hQ.out.cells 1 (by decide)).2⟩
            refine wpAnyH_take (i := 0) (oi := { dst := some 132, op := Op.indexAddr 60 (Operand.tmp 7) (Operand.const (Value.int IntKind.i64 0)), type := 0, pos := "law.go:87", after := #[], guard := none }) (v := ?vv85) rfl (by kernel_rfl) (by kernel_rfl) (by kernel_rfl) (fun _ _ _ h => h) (Or.inl ⟨by rfl, ?hy85⟩) (by assumption) ?_
            case hy85 => (intro w hSw; (try dsimp only at hSw); go_simp; all_goals with_reducible rfl)
            try simp only [Act.put, List.setIfInBounds_toArray, List.set_cons_zero, List.set_cons_succ]
            refine wpAnyH_take (i := 1) (oi := { dst := some 133, op := Op.load 23 (Operand.tmp 132), type := 23, pos := "law.go:87", after := #[{ on := 0, ground := Ground.data }], guard := none }) (v := ?vv86) rfl (by kernel_rfl) (by kernel_rfl) (by kernel_rfl) (fun _ _ _ h => h) (Or.inl ⟨by rfl, ?hy86⟩) (by assumption) ?_
            case hy86 => (intro w hSw; (try dsimp only at hSw); go_simp; all_goals with_reducible rfl)
            try simp only [Act.put, List.setIfInBounds_toArray, List.set_cons_zero, List.set_cons_succ]
            refine wpAnyH_take (i := 3) (oi := { dst := some 135, op := Op.indexAddr 62 (Operand.tmp 8) (Operand.const (Value.int IntKind.i64 0)), type := 0, pos := "law.go:87", after := #[], guard := none }) (v := ?vv87) rfl (by kernel_rfl) (by kernel_rfl) (by kernel_rfl) (fun _ _ _ h => h) (Or.inl ⟨by rfl, ?hy87⟩) (by assumption) ?_
            case hy87 => (intro w hSw; (try dsimp only at hSw); go_simp; all_goals with_reducible rfl)
            try simp only [Act.put, List.setIfInBounds_toArray, List.set_cons_zero, List.set_cons_succ]
            refine wpAnyH_take (i := 4) (oi := { dst := some 136, op := Op.load 61 (Operand.tmp 135), type := 61, pos := "law.go:87", after := #[{ on := 3, ground := Ground.data }], guard := none }) (v := ?vv88) rfl (by kernel_rfl) (by kernel_rfl) (by kernel_rfl) (fun _ _ _ h => h) (Or.inl ⟨by rfl, ?hy88⟩) (by assumption) ?_
            case hy88 => (intro w hSw; (try dsimp only at hSw); go_simp; all_goals with_reducible rfl)
            try simp only [Act.put, List.setIfInBounds_toArray, List.set_cons_zero, List.set_cons_succ]
            refine wpAnyH_ready (rs := [2]) (by kernel_rfl) (by simp) ?_
            refine AllReadyH.cons (o := { dst := some 134, op := Op.call { callee := Callee.value (Operand.func 13), args := #[Operand.tmp 133], argTypes := #[23] }, type := 3, pos := "law.go:87", after := #[{ on := 1, ground := Ground.data }], guard := none }) rfl (fun K hK => ?_) AllReadyH.nil
            go_simp
            refine (hw13.out 0 (by decide)).mono ?_
            rintro e' W10 ⟨rfl, rfl⟩
            go_wp2_with fail
            refine hK.out _ _ hH9.out (fun hHeld => ?_)
            clear hK K
            try simp only [Act.put, List.setIfInBounds_toArray, List.set_cons_zero, List.set_cons_succ]
            refine wpAnyH_ready (rs := [5]) (by kernel_rfl) (by simp) ?_
            refine AllReadyH.cons (o := { dst := some 137, op := Op.call { callee := Callee.value (Operand.func 25), args := #[Operand.tmp 136], argTypes := #[61] }, type := 3, pos := "law.go:87", after := #[{ on := 4, ground := Ground.data }, { on := 2, ground := Ground.chain }], guard := none }) rfl (fun K hK => ?_) AllReadyH.nil
            go_simp
            refine (hw25.out 0 (by decide)).mono ?_
            rintro e' W10 ⟨rfl, rfl⟩
            go_wp2_with fail
            refine hK.out _ _ hH9.out (fun hHeld => ?_)
            clear hK K
            try simp only [Act.put, List.setIfInBounds_toArray, List.set_cons_zero, List.set_cons_succ]
            refine wpAnyH_take (i := 6) (oi := { dst := some 138, op := Op.binOp BinOp.neq 3 (Operand.tmp 134) (Operand.tmp 137) 3, type := 4, pos := "law.go:87", after := #[{ on := 2, ground := Ground.data }, { on := 5, ground := Ground.data }], guard := none }) (v := ?vv89) rfl (by kernel_rfl) (by kernel_rfl) (by kernel_rfl) (fun _ _ _ h => h) (Or.inl ⟨by rfl, ?hy89⟩) (by assumption) ?_
            case hy89 => (intro w hSw; (try dsimp only at hSw); go_simp; all_goals with_reducible rfl)
            try simp only [Act.put, List.setIfInBounds_toArray, List.set_cons_zero, List.set_cons_succ]
            refine wpAnyH_take (i := 7) (oi := { dst := some 139, op := Op.move (Operand.tmp 138), type := 4, pos := "law.go:87", after := #[{ on := 6, ground := Ground.data }, { on := 5, ground := Ground.chain }], guard := none }) (v := ?vv90) rfl (by kernel_rfl) (by kernel_rfl) (by kernel_rfl) (fun _ _ _ h => h) (Or.inl ⟨by rfl, ?hy90⟩) (by assumption) ?_
            case hy90 => (intro w hSw; (try dsimp only at hSw); go_simp; all_goals with_reducible rfl)
            try simp only [Act.put, List.setIfInBounds_toArray, List.set_cons_zero, List.set_cons_succ]
            refine wpAnyH_take (i := 8) (oi := { dst := some 140, op := Op.indexAddr 60 (Operand.tmp 7) (Operand.const (Value.int IntKind.i64 1)), type := 0, pos := "law.go:87", after := #[{ on := 7, ground := Ground.guard }], guard := some (7, false) }) (v := ?vv91) rfl (by kernel_rfl) (by kernel_rfl) (by kernel_rfl) (fun _ _ _ h => h) (Or.inl ⟨by rfl, ?hy91⟩) (by assumption) ?_
            case hy91 => (intro w hSw; (try dsimp only at hSw); go_simp; all_goals with_reducible rfl)
            try simp only [Act.put, List.setIfInBounds_toArray, List.set_cons_zero, List.set_cons_succ]
            refine wpAnyH_take (i := 9) (oi := { dst := some 141, op := Op.load 23 (Operand.tmp 140), type := 23, pos := "law.go:87", after := #[{ on := 8, ground := Ground.data }, { on := 7, ground := Ground.guard }], guard := some (7, false) }) (v := ?vv92) rfl (by kernel_rfl) (by kernel_rfl) (by kernel_rfl) (fun _ _ _ h => h) (Or.inl ⟨by rfl, ?hy92⟩) (by assumption) ?_
            case hy92 => (intro w hSw; (try dsimp only at hSw); go_simp; all_goals with_reducible rfl)
            try simp only [Act.put, List.setIfInBounds_toArray, List.set_cons_zero, List.set_cons_succ]
            refine wpAnyH_take (i := 11) (oi := { dst := some 143, op := Op.indexAddr 62 (Operand.tmp 8) (Operand.const (Value.int IntKind.i64 1)), type := 0, pos := "law.go:87", after := #[{ on := 7, ground := Ground.guard }], guard := some (7, false) }) (v := ?vv93) rfl (by kernel_rfl) (by kernel_rfl) (by kernel_rfl) (fun _ _ _ h => h) (Or.inl ⟨by rfl, ?hy93⟩) (by assumption) ?_
            case hy93 => (intro w hSw; (try dsimp only at hSw); go_simp; all_goals with_reducible rfl)
            try simp only [Act.put, List.setIfInBounds_toArray, List.set_cons_zero, List.set_cons_succ]
            refine wpAnyH_take (i := 12) (oi := { dst := some 144, op := Op.load 61 (Operand.tmp 143), type := 61, pos := "law.go:87", after := #[{ on := 11, ground := Ground.data }, { on := 7, ground := Ground.guard }], guard := some (7, false) }) (v := ?vv94) rfl (by kernel_rfl) (by kernel_rfl) (by kernel_rfl) (fun _ _ _ h => h) (Or.inl ⟨by rfl, ?hy94⟩) (by assumption) ?_
            case hy94 => (intro w hSw; (try dsimp only at hSw); go_simp; all_goals with_reducible rfl)
            try simp only [Act.put, List.setIfInBounds_toArray, List.set_cons_zero, List.set_cons_succ]
            refine wpAnyH_ready (rs := [10]) (by kernel_rfl) (by simp) ?_
            refine AllReadyH.cons (o := { dst := some 142, op := Op.call { callee := Callee.value (Operand.func 13), args := #[Operand.tmp 141], argTypes := #[23] }, type := 3, pos := "law.go:87", after := #[{ on := 9, ground := Ground.data }, { on := 7, ground := Ground.chain }, { on := 7, ground := Ground.guard }], guard := some (7, false) }) rfl (fun K hK => ?_) AllReadyH.nil
            go_simp
            refine (hw13.out 1 (by decide)).mono ?_
            rintro e' W10 ⟨rfl, rfl⟩
            go_wp2_with fail
            refine hK.out _ _ hH9.out (fun hHeld => ?_)
            clear hK K
            try simp only [Act.put, List.setIfInBounds_toArray, List.set_cons_zero, List.set_cons_succ]
            refine wpAnyH_ready (rs := [13]) (by kernel_rfl) (by simp) ?_
            refine AllReadyH.cons (o := { dst := some 145, op := Op.call { callee := Callee.value (Operand.func 25), args := #[Operand.tmp 144], argTypes := #[61] }, type := 3, pos := "law.go:87", after := #[{ on := 12, ground := Ground.data }, { on := 10, ground := Ground.chain }, { on := 7, ground := Ground.guard }], guard := some (7, false) }) rfl (fun K hK => ?_) AllReadyH.nil
            go_simp
            refine (hw25.out 1 (by decide)).mono ?_
            rintro e' W10 ⟨rfl, rfl⟩
            go_wp2_with fail
            refine hK.out _ _ hH9.out (fun hHeld => ?_)
            clear hK K
            try simp only [Act.put, List.setIfInBounds_toArray, List.set_cons_zero, List.set_cons_succ]
            refine wpAnyH_take (i := 14) (oi := { dst := some 146, op := Op.binOp BinOp.neq 3 (Operand.tmp 142) (Operand.tmp 145) 3, type := 4, pos := "law.go:87", after := #[{ on := 10, ground := Ground.data }, { on := 13, ground := Ground.data }, { on := 7, ground := Ground.guard }], guard := some (7, false) }) (v := ?vv95) rfl (by kernel_rfl) (by kernel_rfl) (by kernel_rfl) (fun _ _ _ h => h) (Or.inl ⟨by rfl, ?hy95⟩) (by assumption) ?_
            case hy95 => (intro w hSw; (try dsimp only at hSw); go_simp; all_goals with_reducible rfl)
            try simp only [Act.put, List.setIfInBounds_toArray, List.set_cons_zero, List.set_cons_succ]
            refine wpAnyH_take (i := 15) (oi := { dst := some 147, op := Op.pick (Operand.tmp 139) (Operand.const (Value.bool true)) (Operand.tmp 146), type := 4, pos := "law.go:87", after := #[{ on := 7, ground := Ground.data }, { on := 14, ground := Ground.data }], guard := none }) (v := ?vv96) rfl (by kernel_rfl) (by kernel_rfl) (by kernel_rfl) (fun _ _ _ h => h) (Or.inl ⟨by rfl, ?hy96⟩) (by assumption) ?_
            case hy96 => (intro w hSw; (try dsimp only at hSw); go_simp; all_goals with_reducible rfl)
            try simp only [Act.put, List.setIfInBounds_toArray, List.set_cons_zero, List.set_cons_succ]
            refine wpAnyH_done (by kernel_rfl) ?_ _
            go_wp2_with fail
            go_roundw
            case rel => exact ⟨j + 1, G, H, V', S', R', hlt, by simp, hQ.out, hlq.out⟩
            case measure => simp [intOf]; omega
          · obtain ⟨L1, L2⟩ := hPl.out.cells 1 (by decide)
            by_cases h1 : kind = 1
            · subst h1
              go_wp2_with fail
              refine (text_any 1 true s n N wr hs).mono ?_
              rintro e W1 ⟨⟨T, rfl, hT⟩, hb⟩
              replace hPl : Hid (Pl w W1 a7 (a7 + 1) G H V S R) := hPl.out.later hb
              clear hb C0 C1 C2 C3 C4 L1 L2
              obtain ⟨L1, L2⟩ := hPl.out.cells 1 (by decide)
              go_wp2_with fail
              refine (push_all hPl.out.all 1 (fedL_get G V S 1 (by decide)) T (by have := hlen.out 1 (by decide); have := Nat.mul_le_mul_right 1118576 (Nat.le_trans hj hcap); omega)).mono ?_
              rintro e W2 ⟨rfl, v', hA, kt⟩
              have L2' : W2.cell? ⟨a7 + 1, 1, none⟩ = some (.pointer (some ⟨H 1, 0, none⟩)) := by rw [cell_of_row _ _ _ _ _ _ (kt _ _ _ hPl.out.r (by decide) (by decide))]; rfl
              have hA' : Hid _ := hA
              have kt' : Hid (Kt W1 W2) := kt
              clear hA kt L1 L2
              go_wp2_with fail
              refine (rpush_any W2 (H 1) (R 1) (kt'.out _ _ _ (hPl.out.rf 1 (by decide)) (by decide) (by decide)) T (by have := hlen.out 1 (by decide); have := (hPl.out.rel 1 (by decide)).len; have := Nat.mul_le_mul_right 1118576 (Nat.le_trans hj hcap); omega)).mono ?_
              rintro e W3 ⟨rfl, hR, hk⟩
              have hq := hPl.out.step 1 (by decide) hA'.out kt'.out hR hk ((hPl.out.rel 1 (by decide)).push T)
              have hbd := bound_push (S := S) 1 (by decide) T hT hlen.out
              obtain ⟨V', S', R', hQ, hlq⟩ : ∃ V' S' R', Hid (Pl w W3 a7 (a7 + 1) G H V' S' R') ∧ Hid (∀ i, i < 2 → (S' i).wait.length ≤ (j + 1) * 1118576) := ⟨_, _, _, hq, hbd⟩
              clear hq hbd hA' kt' hR hk hPl hlen L2'
              go_wp2_with fail
              replace hQ : Pl w _ a7 (a7 + 1) G H V' S' R' := hQ.out.drew
              refine wp_region_held_drew (S := fun W => W.cell? ⟨a7, 0, none⟩ = some (.pointer (some ⟨G 0, 0, none⟩)) ∧ W.cell? ⟨a7, 1, none⟩ = some (.pointer (some ⟨G 1, 0, none⟩)) ∧ W.cell? ⟨a7 + 1, 0, none⟩ = some (.pointer (some ⟨H 0, 0, none⟩)) ∧ W.cell? ⟨a7 + 1, 1, none⟩ = some (.pointer (some ⟨H 1, 0, none⟩))) (by kernel_rfl) ⟨(hQ.cells 0 (by decide)).1, (hQ.cells 1 (by decide)).1, (hQ.cells 0 (by decide)).2, (hQ.cells 1 (by decide)).2⟩ (fun hHeld => ?_)
              generalize hWg : World.drew _ = W9 at hQ hHeld ⊢
              clear hWg
              obtain ⟨Z, hZ⟩ : ∃ Z : Nat → Nat, ∀ q, q < 2 → (S' q).wait.length = Z q ∧ (R' q).b.size = Z q := ⟨fun q => (R' q).b.size, fun q hq => ⟨(hQ.rel q hq).len, rfl⟩⟩
              have hw13 : Hid (∀ q, q < 2 → Calls Tryd.prog 13 #[.pointer (some ⟨G q, 0, none⟩)] W9 fun e W' => e = .returned (.int .i64 (Z q : Int)) ∧ W' = W9) := fun q hq => by
                have := wait_all hQ.all q (fedL_get G V' S' q hq)
                rw [(hZ q hq).1] at this
                exact this
              have hw25 : Hid (∀ q, q < 2 → Calls Tryd.prog 25 #[.pointer (some ⟨H q, 0, none⟩)] W9 fun e W' => e = .returned (.int .i64 (Z q : Int)) ∧ W' = W9) := fun q hq => by
                have := rwait_any W9 (H q) (R' q) (hQ.rf q hq)
                rw [(hZ q hq).2] at this
                exact this
              replace hQ : Hid _ := hQ
              clear hZ
              have hH9 : Hid ((fun W => W.cell? ⟨a7, 0, none⟩ = some (.pointer (some ⟨G 0, 0, none⟩)) ∧ W.cell? ⟨a7, 1, none⟩ = some (.pointer (some ⟨G 1, 0, none⟩)) ∧ W.cell? ⟨a7 + 1, 0, none⟩ = some (.pointer (some ⟨H 0, 0, none⟩)) ∧ W.cell? ⟨a7 + 1, 1, none⟩ = some (.pointer (some ⟨H 1, 0, none⟩))) W9) := ⟨(hQ.out.cells 0 (by decide)).1, (hQ.out.cells 1 (by decide)).1, (hQ.out.cells 0 (by decide)).2, (hQ.out.cells 1 (by decide)).2⟩
              refine wpAnyH_take (i := 0) (oi := { dst := some 132, op := Op.indexAddr 60 (Operand.tmp 7) (Operand.const (Value.int IntKind.i64 0)), type := 0, pos := "law.go:87", after := #[], guard := none }) (v := ?vv97) rfl (by kernel_rfl) (by kernel_rfl) (by kernel_rfl) (fun _ _ _ h => h) (Or.inl ⟨by rfl, ?hy97⟩) (by assumption) ?_
              case hy97 => (intro w hSw; (try dsimp only at hSw); go_simp; all_goals with_reducible rfl)
              try simp only [Act.put, List.setIfInBounds_toArray, List.set_cons_zero, List.set_cons_succ]
              refine wpAnyH_take (i := 1) (oi := { dst := some 133, op := Op.load 23 (Operand.tmp 132), type := 23, pos := "law.go:87", after := #[{ on := 0, ground := Ground.data }], guard := none }) (v := ?vv98) rfl (by kernel_rfl) (by kernel_rfl) (by kernel_rfl) (fun _ _ _ h => h) (Or.inl ⟨by rfl, ?hy98⟩) (by assumption) ?_
              case hy98 => (intro w hSw; (try dsimp only at hSw); go_simp; all_goals with_reducible rfl)
              try simp only [Act.put, List.setIfInBounds_toArray, List.set_cons_zero, List.set_cons_succ]
              refine wpAnyH_take (i := 3) (oi := { dst := some 135, op := Op.indexAddr 62 (Operand.tmp 8) (Operand.const (Value.int IntKind.i64 0)), type := 0, pos := "law.go:87", after := #[], guard := none }) (v := ?vv99) rfl (by kernel_rfl) (by kernel_rfl) (by kernel_rfl) (fun _ _ _ h => h) (Or.inl ⟨by rfl, ?hy99⟩) (by assumption) ?_
              case hy99 => (intro w hSw; (try dsimp only at hSw); go_simp; all_goals with_reducible rfl)
              try simp only [Act.put, List.setIfInBounds_toArray, List.set_cons_zero, List.set_cons_succ]
              refine wpAnyH_take (i := 4) (oi := { dst := some 136, op := Op.load 61 (Operand.tmp 135), type := 61, pos := "law.go:87", after := #[{ on := 3, ground := Ground.data }], guard := none }) (v := ?vv100) rfl (by kernel_rfl) (by kernel_rfl) (by kernel_rfl) (fun _ _ _ h => h) (Or.inl ⟨by rfl, ?hy100⟩) (by assumption) ?_
              case hy100 => (intro w hSw; (try dsimp only at hSw); go_simp; all_goals with_reducible rfl)
              try simp only [Act.put, List.setIfInBounds_toArray, List.set_cons_zero, List.set_cons_succ]
              refine wpAnyH_ready (rs := [2]) (by kernel_rfl) (by simp) ?_
              refine AllReadyH.cons (o := { dst := some 134, op := Op.call { callee := Callee.value (Operand.func 13), args := #[Operand.tmp 133], argTypes := #[23] }, type := 3, pos := "law.go:87", after := #[{ on := 1, ground := Ground.data }], guard := none }) rfl (fun K hK => ?_) AllReadyH.nil
              go_simp
              refine (hw13.out 0 (by decide)).mono ?_
              rintro e' W10 ⟨rfl, rfl⟩
              go_wp2_with fail
              refine hK.out _ _ hH9.out (fun hHeld => ?_)
              clear hK K
              try simp only [Act.put, List.setIfInBounds_toArray, List.set_cons_zero, List.set_cons_succ]
              refine wpAnyH_ready (rs := [5]) (by kernel_rfl) (by simp) ?_
              refine AllReadyH.cons (o := { dst := some 137, op := Op.call { callee := Callee.value (Operand.func 25), args := #[Operand.tmp 136], argTypes := #[61] }, type := 3, pos := "law.go:87", after := #[{ on := 4, ground := Ground.data }, { on := 2, ground := Ground.chain }], guard := none }) rfl (fun K hK => ?_) AllReadyH.nil
              go_simp
              refine (hw25.out 0 (by decide)).mono ?_
              rintro e' W10 ⟨rfl, rfl⟩
              go_wp2_with fail
              refine hK.out _ _ hH9.out (fun hHeld => ?_)
              clear hK K
              try simp only [Act.put, List.setIfInBounds_toArray, List.set_cons_zero, List.set_cons_succ]
              refine wpAnyH_take (i := 6) (oi := { dst := some 138, op := Op.binOp BinOp.neq 3 (Operand.tmp 134) (Operand.tmp 137) 3, type := 4, pos := "law.go:87", after := #[{ on := 2, ground := Ground.data }, { on := 5, ground := Ground.data }], guard := none }) (v := ?vv101) rfl (by kernel_rfl) (by kernel_rfl) (by kernel_rfl) (fun _ _ _ h => h) (Or.inl ⟨by rfl, ?hy101⟩) (by assumption) ?_
              case hy101 => (intro w hSw; (try dsimp only at hSw); go_simp; all_goals with_reducible rfl)
              try simp only [Act.put, List.setIfInBounds_toArray, List.set_cons_zero, List.set_cons_succ]
              refine wpAnyH_take (i := 7) (oi := { dst := some 139, op := Op.move (Operand.tmp 138), type := 4, pos := "law.go:87", after := #[{ on := 6, ground := Ground.data }, { on := 5, ground := Ground.chain }], guard := none }) (v := ?vv102) rfl (by kernel_rfl) (by kernel_rfl) (by kernel_rfl) (fun _ _ _ h => h) (Or.inl ⟨by rfl, ?hy102⟩) (by assumption) ?_
              case hy102 => (intro w hSw; (try dsimp only at hSw); go_simp; all_goals with_reducible rfl)
              try simp only [Act.put, List.setIfInBounds_toArray, List.set_cons_zero, List.set_cons_succ]
              refine wpAnyH_take (i := 8) (oi := { dst := some 140, op := Op.indexAddr 60 (Operand.tmp 7) (Operand.const (Value.int IntKind.i64 1)), type := 0, pos := "law.go:87", after := #[{ on := 7, ground := Ground.guard }], guard := some (7, false) }) (v := ?vv103) rfl (by kernel_rfl) (by kernel_rfl) (by kernel_rfl) (fun _ _ _ h => h) (Or.inl ⟨by rfl, ?hy103⟩) (by assumption) ?_
              case hy103 => (intro w hSw; (try dsimp only at hSw); go_simp; all_goals with_reducible rfl)
              try simp only [Act.put, List.setIfInBounds_toArray, List.set_cons_zero, List.set_cons_succ]
              refine wpAnyH_take (i := 9) (oi := { dst := some 141, op := Op.load 23 (Operand.tmp 140), type := 23, pos := "law.go:87", after := #[{ on := 8, ground := Ground.data }, { on := 7, ground := Ground.guard }], guard := some (7, false) }) (v := ?vv104) rfl (by kernel_rfl) (by kernel_rfl) (by kernel_rfl) (fun _ _ _ h => h) (Or.inl ⟨by rfl, ?hy104⟩) (by assumption) ?_
              case hy104 => (intro w hSw; (try dsimp only at hSw); go_simp; all_goals with_reducible rfl)
              try simp only [Act.put, List.setIfInBounds_toArray, List.set_cons_zero, List.set_cons_succ]
              refine wpAnyH_take (i := 11) (oi := { dst := some 143, op := Op.indexAddr 62 (Operand.tmp 8) (Operand.const (Value.int IntKind.i64 1)), type := 0, pos := "law.go:87", after := #[{ on := 7, ground := Ground.guard }], guard := some (7, false) }) (v := ?vv105) rfl (by kernel_rfl) (by kernel_rfl) (by kernel_rfl) (fun _ _ _ h => h) (Or.inl ⟨by rfl, ?hy105⟩) (by assumption) ?_
              case hy105 => (intro w hSw; (try dsimp only at hSw); go_simp; all_goals with_reducible rfl)
              try simp only [Act.put, List.setIfInBounds_toArray, List.set_cons_zero, List.set_cons_succ]
              refine wpAnyH_take (i := 12) (oi := { dst := some 144, op := Op.load 61 (Operand.tmp 143), type := 61, pos := "law.go:87", after := #[{ on := 11, ground := Ground.data }, { on := 7, ground := Ground.guard }], guard := some (7, false) }) (v := ?vv106) rfl (by kernel_rfl) (by kernel_rfl) (by kernel_rfl) (fun _ _ _ h => h) (Or.inl ⟨by rfl, ?hy106⟩) (by assumption) ?_
              case hy106 => (intro w hSw; (try dsimp only at hSw); go_simp; all_goals with_reducible rfl)
              try simp only [Act.put, List.setIfInBounds_toArray, List.set_cons_zero, List.set_cons_succ]
              refine wpAnyH_ready (rs := [10]) (by kernel_rfl) (by simp) ?_
              refine AllReadyH.cons (o := { dst := some 142, op := Op.call { callee := Callee.value (Operand.func 13), args := #[Operand.tmp 141], argTypes := #[23] }, type := 3, pos := "law.go:87", after := #[{ on := 9, ground := Ground.data }, { on := 7, ground := Ground.chain }, { on := 7, ground := Ground.guard }], guard := some (7, false) }) rfl (fun K hK => ?_) AllReadyH.nil
              go_simp
              refine (hw13.out 1 (by decide)).mono ?_
              rintro e' W10 ⟨rfl, rfl⟩
              go_wp2_with fail
              refine hK.out _ _ hH9.out (fun hHeld => ?_)
              clear hK K
              try simp only [Act.put, List.setIfInBounds_toArray, List.set_cons_zero, List.set_cons_succ]
              refine wpAnyH_ready (rs := [13]) (by kernel_rfl) (by simp) ?_
              refine AllReadyH.cons (o := { dst := some 145, op := Op.call { callee := Callee.value (Operand.func 25), args := #[Operand.tmp 144], argTypes := #[61] }, type := 3, pos := "law.go:87", after := #[{ on := 12, ground := Ground.data }, { on := 10, ground := Ground.chain }, { on := 7, ground := Ground.guard }], guard := some (7, false) }) rfl (fun K hK => ?_) AllReadyH.nil
              go_simp
              refine (hw25.out 1 (by decide)).mono ?_
              rintro e' W10 ⟨rfl, rfl⟩
              go_wp2_with fail
              refine hK.out _ _ hH9.out (fun hHeld => ?_)
              clear hK K
              try simp only [Act.put, List.setIfInBounds_toArray, List.set_cons_zero, List.set_cons_succ]
              refine wpAnyH_take (i := 14) (oi := { dst := some 146, op := Op.binOp BinOp.neq 3 (Operand.tmp 142) (Operand.tmp 145) 3, type := 4, pos := "law.go:87", after := #[{ on := 10, ground := Ground.data }, { on := 13, ground := Ground.data }, { on := 7, ground := Ground.guard }], guard := some (7, false) }) (v := ?vv107) rfl (by kernel_rfl) (by kernel_rfl) (by kernel_rfl) (fun _ _ _ h => h) (Or.inl ⟨by rfl, ?hy107⟩) (by assumption) ?_
              case hy107 => (intro w hSw; (try dsimp only at hSw); go_simp; all_goals with_reducible rfl)
              try simp only [Act.put, List.setIfInBounds_toArray, List.set_cons_zero, List.set_cons_succ]
              refine wpAnyH_take (i := 15) (oi := { dst := some 147, op := Op.pick (Operand.tmp 139) (Operand.const (Value.bool true)) (Operand.tmp 146), type := 4, pos := "law.go:87", after := #[{ on := 7, ground := Ground.data }, { on := 14, ground := Ground.data }], guard := none }) (v := ?vv108) rfl (by kernel_rfl) (by kernel_rfl) (by kernel_rfl) (fun _ _ _ h => h) (Or.inl ⟨by rfl, ?hy108⟩) (by assumption) ?_
              case hy108 => (intro w hSw; (try dsimp only at hSw); go_simp; all_goals with_reducible rfl)
              try simp only [Act.put, List.setIfInBounds_toArray, List.set_cons_zero, List.set_cons_succ]
              refine wpAnyH_done (by kernel_rfl) ?_ _
              go_wp2_with fail
              go_roundw
              case rel => exact ⟨j + 1, G, H, V', S', R', hlt, by simp, hQ.out, hlq.out⟩
              case measure => simp [intOf]; omega
            by_cases h2 : kind = 2
            · subst h2
              clear h1
              have hal := (hPl.out.rel 1 (by decide)).next
              have hrl := rnext_len (R 1)
              obtain ⟨r, hr⟩ : ∃ r, nextS (S 1) = r := ⟨_, rfl⟩
              obtain ⟨t, ht⟩ : ∃ t, rnextS (R 1) = t := ⟨_, rfl⟩
              rw [hr, ht] at hal
              rw [ht] at hrl
              obtain ⟨⟨f, ps⟩, ok, c, x, S2⟩ := r
              obtain ⟨⟨f', ps'⟩, ok', c', x', R2⟩ := t
              obtain ⟨e1, e2, e3, e4, hrel2⟩ := hal
              cases e1
              cases e2
              cases e3
              cases e4
              have hn12 : Hid (Calls Tryd.prog 12 #[.pointer (some ⟨G 1, 0, none⟩)] wr fun e W' => ∃ pb pl pc v', e = .returned (.tuple #[.agg #[.int .i64 f.ty, .int .i64 f.fl, .int .i64 f.st, .string f.data, .int .i64 f.pad, .int .i64 f.dep, .bool f.excl, .int .i64 f.wt, .int .i64 f.code, .int .i64 f.last, .slice pb pl pc], .bool ok, .agg #[.int .i64 c, .int .i64 x]]) ∧ PRow W' (.slice pb pl pc) ps ∧ All w W' ((fedL G V S).set 1 (G 1, v', S2)) ∧ Kt wr W') := by
                refine (next_all hPl.out.all 1 (fedL_get G V S 1 (by decide)) _ hr).mono ?_
                rintro e W' ⟨pb, pl, pc, v', rfl, k1, -, k2, k3⟩
                exact ⟨pb, pl, pc, v', rfl, k1, k2, k3⟩
              have hn23 : Hid (∀ W, RF W (H 1) (R 1) → Calls Tryd.prog 23 #[.pointer (some ⟨H 1, 0, none⟩)] W fun e W' => ∃ qb ql qc, e = .returned (.tuple #[.agg #[.int .i64 f.ty, .int .i64 f.fl, .int .i64 f.st, .string f.data, .int .i64 f.pad, .int .i64 f.dep, .bool f.excl, .int .i64 f.wt, .int .i64 f.code, .int .i64 f.last, .slice qb ql qc], .bool ok, .agg #[.int .i64 c, .int .i64 x]]) ∧ PRow W' (.slice qb ql qc) ps ∧ RF W' (H 1) R2 ∧ Kp (H 1) W W') := fun W h => by
                refine (rnext_any W (H 1) (R 1) h).mono ?_
                rintro e W' hp
                rw [ht] at hp
                obtain ⟨pb, pl, pc, rfl, k1, -, k2, k3⟩ := hp
                exact ⟨pb, pl, pc, rfl, k1, k2, k3⟩
              have hbd : Hid (∀ q, q < 2 → ((upd S 1 S2) q).wait.length ≤ (j + 1) * 1118576) := bound_next (S := S) 1 (by decide) S2 (by have q1 : S2.wait.length = R2.b.size := hrel2.len; have q2 := (hPl.out.rel 1 (by decide)).len; have q3 : R2.b.size ≤ (R 1).b.size := hrl; omega) hlen.out
              replace hrel2 : Hid _ := hrel2
              clear hr ht hrl hlen
              go_wp2_with fail
              refine hn12.out.mono ?_
              rintro e W1 ⟨pb, pl, pc, v', rfl, hp, hA, kt⟩
              have hA1 : Hid (All w ((W1.alloc (.cells #[.int .i64 f.ty, .int .i64 f.fl, .int .i64 f.st, .string f.data, .int .i64 f.pad, .int .i64 f.dep, .bool f.excl, .int .i64 f.wt, .int .i64 f.code, .int .i64 f.last, .slice pb pl pc] 28)).alloc (.cells #[.int .i64 c, .int .i64 x] 30)) _) := (hA.alloc _).alloc _
              have kt1 : Kt W1 ((W1.alloc (.cells #[.int .i64 f.ty, .int .i64 f.fl, .int .i64 f.st, .string f.data, .int .i64 f.pad, .int .i64 f.dep, .bool f.excl, .int .i64 f.wt, .int .i64 f.code, .int .i64 f.last, .slice pb pl pc] 28)).alloc (.cells #[.int .i64 c, .int .i64 x] 30)) := (Kt.alloc _ _).trans (Kt.alloc _ _)
              have kt2 : Hid (Kt wr ((W1.alloc (.cells #[.int .i64 f.ty, .int .i64 f.fl, .int .i64 f.st, .string f.data, .int .i64 f.pad, .int .i64 f.dep, .bool f.excl, .int .i64 f.wt, .int .i64 f.code, .int .i64 f.last, .slice pb pl pc] 28)).alloc (.cells #[.int .i64 c, .int .i64 x] 30))) := kt.trans kt1
              have L2' : ((W1.alloc (.cells #[.int .i64 f.ty, .int .i64 f.fl, .int .i64 f.st, .string f.data, .int .i64 f.pad, .int .i64 f.dep, .bool f.excl, .int .i64 f.wt, .int .i64 f.code, .int .i64 f.last, .slice pb pl pc] 28)).alloc (.cells #[.int .i64 c, .int .i64 x] 30)).cell? ⟨a7 + 1, 1, none⟩ = some (.pointer (some ⟨H 1, 0, none⟩)) := by rw [cell_of_row _ _ _ _ _ _ (kt2.out _ _ _ hPl.out.r (by decide) (by decide))]; rfl
              have b13 : Hid (((W1.alloc (.cells #[.int .i64 f.ty, .int .i64 f.fl, .int .i64 f.st, .string f.data, .int .i64 f.pad, .int .i64 f.dep, .bool f.excl, .int .i64 f.wt, .int .i64 f.code, .int .i64 f.last, .slice pb pl pc] 28)).alloc (.cells #[.int .i64 c, .int .i64 x] 30)).heap[W1.heap.size]? = some (.cells #[.int .i64 f.ty, .int .i64 f.fl, .int .i64 f.st, .string f.data, .int .i64 f.pad, .int .i64 f.dep, .bool f.excl, .int .i64 f.wt, .int .i64 f.code, .int .i64 f.last, .slice pb pl pc] 28 (0, 0))) := by
                show _ = _
                simp only [heap_al, size_al]
                rw [if_neg (by omega), if_pos trivial]
              have b15 : Hid (((W1.alloc (.cells #[.int .i64 f.ty, .int .i64 f.fl, .int .i64 f.st, .string f.data, .int .i64 f.pad, .int .i64 f.dep, .bool f.excl, .int .i64 f.wt, .int .i64 f.code, .int .i64 f.last, .slice pb pl pc] 28)).alloc (.cells #[.int .i64 c, .int .i64 x] 30)).heap[W1.heap.size + 1]? = some (.cells #[.int .i64 c, .int .i64 x] 30 (0, 0))) := by
                show _ = _
                simp only [heap_al, size_al]
                rw [if_pos trivial]
              have hp1 : Hid (PRow ((W1.alloc (.cells #[.int .i64 f.ty, .int .i64 f.fl, .int .i64 f.st, .string f.data, .int .i64 f.pad, .int .i64 f.dep, .bool f.excl, .int .i64 f.wt, .int .i64 f.code, .int .i64 f.last, .slice pb pl pc] 28)).alloc (.cells #[.int .i64 c, .int .i64 x] 30)) (.slice pb pl pc) ps) := kt1.prow hp
              clear hA kt kt1 hp hn12 L1 L2 C0 C1 C2 C3 C4
              go_wp2_with fail
              refine (hn23.out _ (kt2.out _ _ _ (hPl.out.rf 1 (by decide)) (by decide) (by decide))).mono ?_
              rintro e W3 ⟨qb, ql, qc, rfl, hq, hR, hk⟩
              have hPl3 := hPl.out.step 1 (by decide) hA1.out kt2.out hR hk hrel2.out
              have hRi : RF ((W1.alloc (.cells #[.int .i64 f.ty, .int .i64 f.fl, .int .i64 f.st, .string f.data, .int .i64 f.pad, .int .i64 f.dep, .bool f.excl, .int .i64 f.wt, .int .i64 f.code, .int .i64 f.last, .slice pb pl pc] 28)).alloc (.cells #[.int .i64 c, .int .i64 x] 30)) (H 1) (R 1) := kt2.out _ _ _ (hPl.out.rf 1 (by decide)) (by decide) (by decide)
              have b13' : FB W3 W1.heap.size f (.slice pb pl pc) := kp_keep hRi hk b13.out (by decide)
              have b15' := kp_keep hRi hk b15.out (by decide)
              have hp3 : PRow W3 (.slice pb pl pc) ps := kp_prow hRi hk hp1.out
              have kt3 : Kt W3 ((W3.alloc (.cells #[.int .i64 f.ty, .int .i64 f.fl, .int .i64 f.st, .string f.data, .int .i64 f.pad, .int .i64 f.dep, .bool f.excl, .int .i64 f.wt, .int .i64 f.code, .int .i64 f.last, .slice qb ql qc] 28)).alloc (.cells #[.int .i64 c, .int .i64 x] 30)) := (Kt.alloc _ _).trans (Kt.alloc _ _)
              have hPl4 : Hid (Pl w ((W3.alloc (.cells #[.int .i64 f.ty, .int .i64 f.fl, .int .i64 f.st, .string f.data, .int .i64 f.pad, .int .i64 f.dep, .bool f.excl, .int .i64 f.wt, .int .i64 f.code, .int .i64 f.last, .slice qb ql qc] 28)).alloc (.cells #[.int .i64 c, .int .i64 x] 30)) a7 (a7 + 1) G H _ _ _) := (hPl3.alloc _).alloc _
              obtain ⟨z0, z1, z2, z3, z4, z5, z6, z7, z8, z9, z10⟩ := (kt3.fb b13').cells
              obtain ⟨y0, y1, -, -⟩ := box_cells (kt3.box b15')
              have h19 : Hid (Calls Tryd.prog 19 #[.agg #[.int .i64 f.ty, .int .i64 f.fl, .int .i64 f.st, .string f.data, .int .i64 f.pad, .int .i64 f.dep, .bool f.excl, .int .i64 f.wt, .int .i64 f.code, .int .i64 f.last, .slice pb pl pc], .agg #[.int .i64 f.ty, .int .i64 f.fl, .int .i64 f.st, .string f.data, .int .i64 f.pad, .int .i64 f.dep, .bool f.excl, .int .i64 f.wt, .int .i64 f.code, .int .i64 f.last, .slice qb ql qc]] ((W3.alloc (.cells #[.int .i64 f.ty, .int .i64 f.fl, .int .i64 f.st, .string f.data, .int .i64 f.pad, .int .i64 f.dep, .bool f.excl, .int .i64 f.wt, .int .i64 f.code, .int .i64 f.last, .slice qb ql qc] 28)).alloc (.cells #[.int .i64 c, .int .i64 x] 30)) fun e W' => e = .returned (.bool true) ∧ Below ((W3.alloc (.cells #[.int .i64 f.ty, .int .i64 f.fl, .int .i64 f.st, .string f.data, .int .i64 f.pad, .int .i64 f.dep, .bool f.excl, .int .i64 f.wt, .int .i64 f.code, .int .i64 f.last, .slice qb ql qc] 28)).alloc (.cells #[.int .i64 c, .int .i64 x] 30)).heap.size ((W3.alloc (.cells #[.int .i64 f.ty, .int .i64 f.fl, .int .i64 f.st, .string f.data, .int .i64 f.pad, .int .i64 f.dep, .bool f.excl, .int .i64 f.wt, .int .i64 f.code, .int .i64 f.last, .slice qb ql qc] 28)).alloc (.cells #[.int .i64 c, .int .i64 x] 30)) W') := same_eq f ((W3.alloc (.cells #[.int .i64 f.ty, .int .i64 f.fl, .int .i64 f.st, .string f.data, .int .i64 f.pad, .int .i64 f.dep, .bool f.excl, .int .i64 f.wt, .int .i64 f.code, .int .i64 f.last, .slice qb ql qc] 28)).alloc (.cells #[.int .i64 c, .int .i64 x] 30)) pb pl pc qb ql qc ps (kt3.prow hp3) (kt3.prow hq)
              obtain ⟨a13, ha13⟩ : ∃ a13, W1.heap.size = a13 := ⟨_, rfl⟩
              rw [ha13] at z0 z1 z2 z3 z4 z5 z6 z7 z8 z9 z10 y0 y1 ⊢
              clear hRi b13 b15 b13' b15' hp1 hp3 hq hR hk kt2 kt3 hPl3 hA1 hn23 hPl L2' hrel2 ha13
              go_wp2_with fail
              refine h19.out.mono ?_
              rintro e W5 ⟨rfl, hb5⟩
              have hq5 := hPl4.out.later hb5
              obtain ⟨V', S', R', hQ, hlq⟩ : ∃ V' S' R', Hid (Pl w W5 a7 (a7 + 1) G H V' S' R') ∧ Hid (∀ i, i < 2 → (S' i).wait.length ≤ (j + 1) * 1118576) := ⟨_, _, _, hq5, hbd.out⟩
              clear hq5 hbd hPl4 hb5 h19 z0 z1 z2 z3 z4 z5 z6 z7 z8 z9 z10 y0 y1
              go_wp2_with fail
              replace hQ : Pl w _ a7 (a7 + 1) G H V' S' R' := hQ.out.drew
              refine wp_region_held_drew (S := fun W => W.cell? ⟨a7, 0, none⟩ = some (.pointer (some ⟨G 0, 0, none⟩)) ∧ W.cell? ⟨a7, 1, none⟩ = some (.pointer (some ⟨G 1, 0, none⟩)) ∧ W.cell? ⟨a7 + 1, 0, none⟩ = some (.pointer (some ⟨H 0, 0, none⟩)) ∧ W.cell? ⟨a7 + 1, 1, none⟩ = some (.pointer (some ⟨H 1, 0, none⟩))) (by kernel_rfl) ⟨(hQ.cells 0 (by decide)).1, (hQ.cells 1 (by decide)).1, (hQ.cells 0 (by decide)).2, (hQ.cells 1 (by decide)).2⟩ (fun hHeld => ?_)
              generalize hWg : World.drew _ = W9 at hQ hHeld ⊢
              clear hWg
              obtain ⟨Z, hZ⟩ : ∃ Z : Nat → Nat, ∀ q, q < 2 → (S' q).wait.length = Z q ∧ (R' q).b.size = Z q := ⟨fun q => (R' q).b.size, fun q hq => ⟨(hQ.rel q hq).len, rfl⟩⟩
              have hw13 : Hid (∀ q, q < 2 → Calls Tryd.prog 13 #[.pointer (some ⟨G q, 0, none⟩)] W9 fun e W' => e = .returned (.int .i64 (Z q : Int)) ∧ W' = W9) := fun q hq => by
                have := wait_all hQ.all q (fedL_get G V' S' q hq)
                rw [(hZ q hq).1] at this
                exact this
              have hw25 : Hid (∀ q, q < 2 → Calls Tryd.prog 25 #[.pointer (some ⟨H q, 0, none⟩)] W9 fun e W' => e = .returned (.int .i64 (Z q : Int)) ∧ W' = W9) := fun q hq => by
                have := rwait_any W9 (H q) (R' q) (hQ.rf q hq)
                rw [(hZ q hq).2] at this
                exact this
              replace hQ : Hid _ := hQ
              clear hZ
              have hH9 : Hid ((fun W => W.cell? ⟨a7, 0, none⟩ = some (.pointer (some ⟨G 0, 0, none⟩)) ∧ W.cell? ⟨a7, 1, none⟩ = some (.pointer (some ⟨G 1, 0, none⟩)) ∧ W.cell? ⟨a7 + 1, 0, none⟩ = some (.pointer (some ⟨H 0, 0, none⟩)) ∧ W.cell? ⟨a7 + 1, 1, none⟩ = some (.pointer (some ⟨H 1, 0, none⟩))) W9) := ⟨(hQ.out.cells 0 (by decide)).1, (hQ.out.cells 1 (by decide)).1, (hQ.out.cells 0 (by decide)).2, (hQ.out.cells 1 (by decide)).2⟩
              refine wpAnyH_take (i := 0) (oi := { dst := some 132, op := Op.indexAddr 60 (Operand.tmp 7) (Operand.const (Value.int IntKind.i64 0)), type := 0, pos := "law.go:87", after := #[], guard := none }) (v := ?vv109) rfl (by kernel_rfl) (by kernel_rfl) (by kernel_rfl) (fun _ _ _ h => h) (Or.inl ⟨by rfl, ?hy109⟩) (by assumption) ?_
              case hy109 => (intro w hSw; (try dsimp only at hSw); go_simp; all_goals with_reducible rfl)
              try simp only [Act.put, List.setIfInBounds_toArray, List.set_cons_zero, List.set_cons_succ]
              refine wpAnyH_take (i := 1) (oi := { dst := some 133, op := Op.load 23 (Operand.tmp 132), type := 23, pos := "law.go:87", after := #[{ on := 0, ground := Ground.data }], guard := none }) (v := ?vv110) rfl (by kernel_rfl) (by kernel_rfl) (by kernel_rfl) (fun _ _ _ h => h) (Or.inl ⟨by rfl, ?hy110⟩) (by assumption) ?_
              case hy110 => (intro w hSw; (try dsimp only at hSw); go_simp; all_goals with_reducible rfl)
              try simp only [Act.put, List.setIfInBounds_toArray, List.set_cons_zero, List.set_cons_succ]
              refine wpAnyH_take (i := 3) (oi := { dst := some 135, op := Op.indexAddr 62 (Operand.tmp 8) (Operand.const (Value.int IntKind.i64 0)), type := 0, pos := "law.go:87", after := #[], guard := none }) (v := ?vv111) rfl (by kernel_rfl) (by kernel_rfl) (by kernel_rfl) (fun _ _ _ h => h) (Or.inl ⟨by rfl, ?hy111⟩) (by assumption) ?_
              case hy111 => (intro w hSw; (try dsimp only at hSw); go_simp; all_goals with_reducible rfl)
              try simp only [Act.put, List.setIfInBounds_toArray, List.set_cons_zero, List.set_cons_succ]
              refine wpAnyH_take (i := 4) (oi := { dst := some 136, op := Op.load 61 (Operand.tmp 135), type := 61, pos := "law.go:87", after := #[{ on := 3, ground := Ground.data }], guard := none }) (v := ?vv112) rfl (by kernel_rfl) (by kernel_rfl) (by kernel_rfl) (fun _ _ _ h => h) (Or.inl ⟨by rfl, ?hy112⟩) (by assumption) ?_
              case hy112 => (intro w hSw; (try dsimp only at hSw); go_simp; all_goals with_reducible rfl)
              try simp only [Act.put, List.setIfInBounds_toArray, List.set_cons_zero, List.set_cons_succ]
              refine wpAnyH_ready (rs := [2]) (by kernel_rfl) (by simp) ?_
              refine AllReadyH.cons (o := { dst := some 134, op := Op.call { callee := Callee.value (Operand.func 13), args := #[Operand.tmp 133], argTypes := #[23] }, type := 3, pos := "law.go:87", after := #[{ on := 1, ground := Ground.data }], guard := none }) rfl (fun K hK => ?_) AllReadyH.nil
              go_simp
              refine (hw13.out 0 (by decide)).mono ?_
              rintro e' W10 ⟨rfl, rfl⟩
              go_wp2_with fail
              refine hK.out _ _ hH9.out (fun hHeld => ?_)
              clear hK K
              try simp only [Act.put, List.setIfInBounds_toArray, List.set_cons_zero, List.set_cons_succ]
              refine wpAnyH_ready (rs := [5]) (by kernel_rfl) (by simp) ?_
              refine AllReadyH.cons (o := { dst := some 137, op := Op.call { callee := Callee.value (Operand.func 25), args := #[Operand.tmp 136], argTypes := #[61] }, type := 3, pos := "law.go:87", after := #[{ on := 4, ground := Ground.data }, { on := 2, ground := Ground.chain }], guard := none }) rfl (fun K hK => ?_) AllReadyH.nil
              go_simp
              refine (hw25.out 0 (by decide)).mono ?_
              rintro e' W10 ⟨rfl, rfl⟩
              go_wp2_with fail
              refine hK.out _ _ hH9.out (fun hHeld => ?_)
              clear hK K
              try simp only [Act.put, List.setIfInBounds_toArray, List.set_cons_zero, List.set_cons_succ]
              refine wpAnyH_take (i := 6) (oi := { dst := some 138, op := Op.binOp BinOp.neq 3 (Operand.tmp 134) (Operand.tmp 137) 3, type := 4, pos := "law.go:87", after := #[{ on := 2, ground := Ground.data }, { on := 5, ground := Ground.data }], guard := none }) (v := ?vv113) rfl (by kernel_rfl) (by kernel_rfl) (by kernel_rfl) (fun _ _ _ h => h) (Or.inl ⟨by rfl, ?hy113⟩) (by assumption) ?_
              case hy113 => (intro w hSw; (try dsimp only at hSw); go_simp; all_goals with_reducible rfl)
              try simp only [Act.put, List.setIfInBounds_toArray, List.set_cons_zero, List.set_cons_succ]
              refine wpAnyH_take (i := 7) (oi := { dst := some 139, op := Op.move (Operand.tmp 138), type := 4, pos := "law.go:87", after := #[{ on := 6, ground := Ground.data }, { on := 5, ground := Ground.chain }], guard := none }) (v := ?vv114) rfl (by kernel_rfl) (by kernel_rfl) (by kernel_rfl) (fun _ _ _ h => h) (Or.inl ⟨by rfl, ?hy114⟩) (by assumption) ?_
              case hy114 => (intro w hSw; (try dsimp only at hSw); go_simp; all_goals with_reducible rfl)
              try simp only [Act.put, List.setIfInBounds_toArray, List.set_cons_zero, List.set_cons_succ]
              refine wpAnyH_take (i := 8) (oi := { dst := some 140, op := Op.indexAddr 60 (Operand.tmp 7) (Operand.const (Value.int IntKind.i64 1)), type := 0, pos := "law.go:87", after := #[{ on := 7, ground := Ground.guard }], guard := some (7, false) }) (v := ?vv115) rfl (by kernel_rfl) (by kernel_rfl) (by kernel_rfl) (fun _ _ _ h => h) (Or.inl ⟨by rfl, ?hy115⟩) (by assumption) ?_
              case hy115 => (intro w hSw; (try dsimp only at hSw); go_simp; all_goals with_reducible rfl)
              try simp only [Act.put, List.setIfInBounds_toArray, List.set_cons_zero, List.set_cons_succ]
              refine wpAnyH_take (i := 9) (oi := { dst := some 141, op := Op.load 23 (Operand.tmp 140), type := 23, pos := "law.go:87", after := #[{ on := 8, ground := Ground.data }, { on := 7, ground := Ground.guard }], guard := some (7, false) }) (v := ?vv116) rfl (by kernel_rfl) (by kernel_rfl) (by kernel_rfl) (fun _ _ _ h => h) (Or.inl ⟨by rfl, ?hy116⟩) (by assumption) ?_
              case hy116 => (intro w hSw; (try dsimp only at hSw); go_simp; all_goals with_reducible rfl)
              try simp only [Act.put, List.setIfInBounds_toArray, List.set_cons_zero, List.set_cons_succ]
              refine wpAnyH_take (i := 11) (oi := { dst := some 143, op := Op.indexAddr 62 (Operand.tmp 8) (Operand.const (Value.int IntKind.i64 1)), type := 0, pos := "law.go:87", after := #[{ on := 7, ground := Ground.guard }], guard := some (7, false) }) (v := ?vv117) rfl (by kernel_rfl) (by kernel_rfl) (by kernel_rfl) (fun _ _ _ h => h) (Or.inl ⟨by rfl, ?hy117⟩) (by assumption) ?_
              case hy117 => (intro w hSw; (try dsimp only at hSw); go_simp; all_goals with_reducible rfl)
              try simp only [Act.put, List.setIfInBounds_toArray, List.set_cons_zero, List.set_cons_succ]
              refine wpAnyH_take (i := 12) (oi := { dst := some 144, op := Op.load 61 (Operand.tmp 143), type := 61, pos := "law.go:87", after := #[{ on := 11, ground := Ground.data }, { on := 7, ground := Ground.guard }], guard := some (7, false) }) (v := ?vv118) rfl (by kernel_rfl) (by kernel_rfl) (by kernel_rfl) (fun _ _ _ h => h) (Or.inl ⟨by rfl, ?hy118⟩) (by assumption) ?_
              case hy118 => (intro w hSw; (try dsimp only at hSw); go_simp; all_goals with_reducible rfl)
              try simp only [Act.put, List.setIfInBounds_toArray, List.set_cons_zero, List.set_cons_succ]
              refine wpAnyH_ready (rs := [10]) (by kernel_rfl) (by simp) ?_
              refine AllReadyH.cons (o := { dst := some 142, op := Op.call { callee := Callee.value (Operand.func 13), args := #[Operand.tmp 141], argTypes := #[23] }, type := 3, pos := "law.go:87", after := #[{ on := 9, ground := Ground.data }, { on := 7, ground := Ground.chain }, { on := 7, ground := Ground.guard }], guard := some (7, false) }) rfl (fun K hK => ?_) AllReadyH.nil
              go_simp
              refine (hw13.out 1 (by decide)).mono ?_
              rintro e' W10 ⟨rfl, rfl⟩
              go_wp2_with fail
              refine hK.out _ _ hH9.out (fun hHeld => ?_)
              clear hK K
              try simp only [Act.put, List.setIfInBounds_toArray, List.set_cons_zero, List.set_cons_succ]
              refine wpAnyH_ready (rs := [13]) (by kernel_rfl) (by simp) ?_
              refine AllReadyH.cons (o := { dst := some 145, op := Op.call { callee := Callee.value (Operand.func 25), args := #[Operand.tmp 144], argTypes := #[61] }, type := 3, pos := "law.go:87", after := #[{ on := 12, ground := Ground.data }, { on := 10, ground := Ground.chain }, { on := 7, ground := Ground.guard }], guard := some (7, false) }) rfl (fun K hK => ?_) AllReadyH.nil
              go_simp
              refine (hw25.out 1 (by decide)).mono ?_
              rintro e' W10 ⟨rfl, rfl⟩
              go_wp2_with fail
              refine hK.out _ _ hH9.out (fun hHeld => ?_)
              clear hK K
              try simp only [Act.put, List.setIfInBounds_toArray, List.set_cons_zero, List.set_cons_succ]
              refine wpAnyH_take (i := 14) (oi := { dst := some 146, op := Op.binOp BinOp.neq 3 (Operand.tmp 142) (Operand.tmp 145) 3, type := 4, pos := "law.go:87", after := #[{ on := 10, ground := Ground.data }, { on := 13, ground := Ground.data }, { on := 7, ground := Ground.guard }], guard := some (7, false) }) (v := ?vv119) rfl (by kernel_rfl) (by kernel_rfl) (by kernel_rfl) (fun _ _ _ h => h) (Or.inl ⟨by rfl, ?hy119⟩) (by assumption) ?_
              case hy119 => (intro w hSw; (try dsimp only at hSw); go_simp; all_goals with_reducible rfl)
              try simp only [Act.put, List.setIfInBounds_toArray, List.set_cons_zero, List.set_cons_succ]
              refine wpAnyH_take (i := 15) (oi := { dst := some 147, op := Op.pick (Operand.tmp 139) (Operand.const (Value.bool true)) (Operand.tmp 146), type := 4, pos := "law.go:87", after := #[{ on := 7, ground := Ground.data }, { on := 14, ground := Ground.data }], guard := none }) (v := ?vv120) rfl (by kernel_rfl) (by kernel_rfl) (by kernel_rfl) (fun _ _ _ h => h) (Or.inl ⟨by rfl, ?hy120⟩) (by assumption) ?_
              case hy120 => (intro w hSw; (try dsimp only at hSw); go_simp; all_goals with_reducible rfl)
              try simp only [Act.put, List.setIfInBounds_toArray, List.set_cons_zero, List.set_cons_succ]
              refine wpAnyH_done (by kernel_rfl) ?_ _
              go_wp2_with fail
              go_roundw
              case rel => exact ⟨j + 1, G, H, V', S', R', hlt, by simp, hQ.out, hlq.out⟩
              case measure => simp [intOf]; omega
            by_cases h3 : kind = 3
            · subst h3
              clear h1 h2
              go_wp2_with fail
              replace hPl : Pl w _ a7 (a7 + 1) G H V S R := hPl.out.drew
              have hS1 : Hid (∀ W, Pl w W a7 (a7 + 1) G H V S R → W.cell? ⟨a7, 1, none⟩ = some (.pointer (some ⟨G 1, 0, none⟩)) ∧ W.cell? ⟨g, off + j * 5 + 4, none⟩ = some (.int .i64 N)) := fun W h => ⟨(h.cells 1 (by decide)).1, (hcells.out W h.all.bel).2.2.2.2⟩
              refine wp_region_held_drew (S := fun W => W.cell? ⟨a7, 1, none⟩ = some (.pointer (some ⟨G 1, 0, none⟩)) ∧ W.cell? ⟨g, off + j * 5 + 4, none⟩ = some (.int .i64 N)) (by kernel_rfl) (hS1.out _ hPl) (fun hHeld => ?_)
              generalize hWg : World.drew _ = W1 at hPl hHeld ⊢
              clear hWg C0 C1 C2 C3 C4 L1 L2
              refine wpAnyH_take (i := 0) (oi := { dst := some 114, op := Op.move (Operand.tmp 11), type := 3, pos := "law.go:84", after := #[], guard := none }) (v := ?vv121) rfl (by kernel_rfl) (by kernel_rfl) (by kernel_rfl) (fun _ _ _ h => h) (Or.inl ⟨by rfl, ?hy121⟩) (by assumption) ?_
              case hy121 => (intro w hSw; (try dsimp only at hSw); go_simp; all_goals with_reducible rfl)
              try simp only [Act.put, List.setIfInBounds_toArray, List.set_cons_zero, List.set_cons_succ]
              refine wpAnyH_take (i := 1) (oi := { dst := some 115, op := Op.indexAddr 60 (Operand.tmp 7) (Operand.tmp 114), type := 0, pos := "law.go:84", after := #[{ on := 0, ground := Ground.data }], guard := none }) (v := ?vv122) rfl (by kernel_rfl) (by kernel_rfl) (by kernel_rfl) (fun _ _ _ h => h) (Or.inl ⟨by rfl, ?hy122⟩) (by assumption) ?_
              case hy122 => (intro w hSw; (try dsimp only at hSw); go_simp; all_goals with_reducible rfl)
              try simp only [Act.put, List.setIfInBounds_toArray, List.set_cons_zero, List.set_cons_succ]
              refine wpAnyH_take (i := 2) (oi := { dst := some 116, op := Op.load 23 (Operand.tmp 115), type := 23, pos := "law.go:84", after := #[{ on := 1, ground := Ground.data }], guard := none }) (v := ?vv123) rfl (by kernel_rfl) (by kernel_rfl) (by kernel_rfl) (fun _ _ _ h => h) (Or.inl ⟨by rfl, ?hy123⟩) (by assumption) ?_
              case hy123 => (intro w hSw; (try dsimp only at hSw); go_simp; all_goals with_reducible rfl)
              try simp only [Act.put, List.setIfInBounds_toArray, List.set_cons_zero, List.set_cons_succ]
              refine wpAnyH_take (i := 3) (oi := { dst := some 117, op := Op.move (Operand.tmp 2), type := 59, pos := "law.go:84", after := #[], guard := none }) (v := ?vv124) rfl (by kernel_rfl) (by kernel_rfl) (by kernel_rfl) (fun _ _ _ h => h) (Or.inl ⟨by rfl, ?hy124⟩) (by assumption) ?_
              case hy124 => (intro w hSw; (try dsimp only at hSw); go_simp; all_goals with_reducible rfl)
              try simp only [Act.put, List.setIfInBounds_toArray, List.set_cons_zero, List.set_cons_succ]
              refine wpAnyH_take (i := 4) (oi := { dst := some 118, op := Op.move (Operand.tmp 10), type := 3, pos := "law.go:84", after := #[], guard := none }) (v := ?vv125) rfl (by kernel_rfl) (by kernel_rfl) (by kernel_rfl) (fun _ _ _ h => h) (Or.inl ⟨by rfl, ?hy125⟩) (by assumption) ?_
              case hy125 => (intro w hSw; (try dsimp only at hSw); go_simp; all_goals with_reducible rfl)
              try simp only [Act.put, List.setIfInBounds_toArray, List.set_cons_zero, List.set_cons_succ]
              refine wpAnyH_take (i := 5) (oi := { dst := some 119, op := Op.indexAddr 59 (Operand.tmp 117) (Operand.tmp 118), type := 0, pos := "law.go:84", after := #[{ on := 3, ground := Ground.data }, { on := 4, ground := Ground.data }], guard := none }) (v := ?vv126) rfl (by kernel_rfl) (by kernel_rfl) (by kernel_rfl) (fun _ _ _ h => h) (Or.inl ⟨by rfl, ?hy126⟩) (by assumption) ?_
              case hy126 => (intro w hSw; (try dsimp only at hSw); go_simp; all_goals with_reducible rfl)
              try simp only [Act.put, List.setIfInBounds_toArray, List.set_cons_zero, List.set_cons_succ]
              refine wpAnyH_take (i := 6) (oi := { dst := some 120, op := Op.fieldAddr 65 (Operand.tmp 119) 4, type := 0, pos := "law.go:84", after := #[{ on := 5, ground := Ground.data }], guard := none }) (v := ?vv127) rfl (by kernel_rfl) (by kernel_rfl) (by kernel_rfl) (fun _ _ _ h => h) (Or.inl ⟨by rfl, ?hy127⟩) (by assumption) ?_
              case hy127 => (intro w hSw; (try dsimp only at hSw); go_simp; all_goals with_reducible rfl)
              try simp only [Act.put, List.setIfInBounds_toArray, List.set_cons_zero, List.set_cons_succ]
              refine wpAnyH_take (i := 7) (oi := { dst := some 121, op := Op.load 2 (Operand.tmp 120), type := 2, pos := "law.go:84", after := #[{ on := 6, ground := Ground.data }], guard := none }) (v := ?vv128) rfl (by kernel_rfl) (by kernel_rfl) (by kernel_rfl) (fun _ _ _ h => h) (Or.inl ⟨by rfl, ?hy128⟩) (by assumption) ?_
              case hy128 => (intro w hSw; (try dsimp only at hSw); go_simp; all_goals with_reducible rfl)
              try simp only [Act.put, List.setIfInBounds_toArray, List.set_cons_zero, List.set_cons_succ]
              refine wpAnyH_ready (rs := [8]) (by kernel_rfl) (by simp) ?_
              refine AllReadyH.cons (o := { dst := some 122, op := Op.call { callee := Callee.value (Operand.func 14), args := #[Operand.tmp 116, Operand.tmp 121], argTypes := #[23, 2] }, type := 0, pos := "law.go:84", after := #[{ on := 2, ground := Ground.data }, { on := 7, ground := Ground.data }], guard := none }) rfl (fun K hK => ?_) AllReadyH.nil
              go_simp
              refine (most_all hPl.all 1 (fedL_get G V S 1 (by decide)) N).mono ?_
              rintro e' W2 ⟨rfl, hA, kt⟩
              go_wp2_with fail
              have hh := hcells.out W2 hA.bel
              have hl7 : W2.cell? ⟨a7, 1, none⟩ = some (.pointer (some ⟨G 1, 0, none⟩)) := by rw [cell_of_row _ _ _ _ _ _ (kt _ _ _ hPl.l (by decide) (by decide))]; rfl
              refine hK.out _ _ ⟨hl7, hh.2.2.2.2⟩ (fun hHeld => ?_)
              clear hK K hl7 hh hHeld hS1
              try simp only [Act.put, List.setIfInBounds_toArray, List.set_cons_zero, List.set_cons_succ]
              refine wpAnyH_done (by kernel_rfl) ?_ _
              go_wp2_with fail
              have hd : Below W2.heap.size W2 W2.drew := (Below.refl _ W2).drew
              replace hA : All w W2.drew _ := hA.drew
              replace kt : Kt W1 W2.drew := kt.trans (Kt.below hd)
              have hS2 : W2.drew.cell? ⟨a7 + 1, 1, none⟩ = some (.pointer (some ⟨H 1, 0, none⟩)) ∧ W2.drew.cell? ⟨g, off + j * 5 + 4, none⟩ = some (.int .i64 N) := ⟨by rw [cell_of_row _ _ _ _ _ _ (kt _ _ _ hPl.r (by decide) (by decide))]; rfl, (hcells.out _ hA.bel).2.2.2.2⟩
              clear hd
              refine wp_region_held_drew (S := fun W => W.cell? ⟨a7 + 1, 1, none⟩ = some (.pointer (some ⟨H 1, 0, none⟩)) ∧ W.cell? ⟨g, off + j * 5 + 4, none⟩ = some (.int .i64 N)) (by kernel_rfl) hS2 (fun hHeld => ?_)
              generalize hWg : World.drew _ = W3 at hA kt hS2 hHeld ⊢
              clear hWg
              refine wpAnyH_take (i := 0) (oi := { dst := some 123, op := Op.move (Operand.tmp 11), type := 3, pos := "law.go:85", after := #[], guard := none }) (v := ?vv129) rfl (by kernel_rfl) (by kernel_rfl) (by kernel_rfl) (fun _ _ _ h => h) (Or.inl ⟨by rfl, ?hy129⟩) (by assumption) ?_
              case hy129 => (intro w hSw; (try dsimp only at hSw); go_simp; all_goals with_reducible rfl)
              try simp only [Act.put, List.setIfInBounds_toArray, List.set_cons_zero, List.set_cons_succ]
              refine wpAnyH_take (i := 1) (oi := { dst := some 124, op := Op.indexAddr 62 (Operand.tmp 8) (Operand.tmp 123), type := 0, pos := "law.go:85", after := #[{ on := 0, ground := Ground.data }], guard := none }) (v := ?vv130) rfl (by kernel_rfl) (by kernel_rfl) (by kernel_rfl) (fun _ _ _ h => h) (Or.inl ⟨by rfl, ?hy130⟩) (by assumption) ?_
              case hy130 => (intro w hSw; (try dsimp only at hSw); go_simp; all_goals with_reducible rfl)
              try simp only [Act.put, List.setIfInBounds_toArray, List.set_cons_zero, List.set_cons_succ]
              refine wpAnyH_take (i := 2) (oi := { dst := some 125, op := Op.load 61 (Operand.tmp 124), type := 61, pos := "law.go:85", after := #[{ on := 1, ground := Ground.data }], guard := none }) (v := ?vv131) rfl (by kernel_rfl) (by kernel_rfl) (by kernel_rfl) (fun _ _ _ h => h) (Or.inl ⟨by rfl, ?hy131⟩) (by assumption) ?_
              case hy131 => (intro w hSw; (try dsimp only at hSw); go_simp; all_goals with_reducible rfl)
              try simp only [Act.put, List.setIfInBounds_toArray, List.set_cons_zero, List.set_cons_succ]
              refine wpAnyH_take (i := 3) (oi := { dst := some 126, op := Op.move (Operand.tmp 2), type := 59, pos := "law.go:85", after := #[], guard := none }) (v := ?vv132) rfl (by kernel_rfl) (by kernel_rfl) (by kernel_rfl) (fun _ _ _ h => h) (Or.inl ⟨by rfl, ?hy132⟩) (by assumption) ?_
              case hy132 => (intro w hSw; (try dsimp only at hSw); go_simp; all_goals with_reducible rfl)
              try simp only [Act.put, List.setIfInBounds_toArray, List.set_cons_zero, List.set_cons_succ]
              refine wpAnyH_take (i := 4) (oi := { dst := some 127, op := Op.move (Operand.tmp 10), type := 3, pos := "law.go:85", after := #[], guard := none }) (v := ?vv133) rfl (by kernel_rfl) (by kernel_rfl) (by kernel_rfl) (fun _ _ _ h => h) (Or.inl ⟨by rfl, ?hy133⟩) (by assumption) ?_
              case hy133 => (intro w hSw; (try dsimp only at hSw); go_simp; all_goals with_reducible rfl)
              try simp only [Act.put, List.setIfInBounds_toArray, List.set_cons_zero, List.set_cons_succ]
              refine wpAnyH_take (i := 5) (oi := { dst := some 128, op := Op.indexAddr 59 (Operand.tmp 126) (Operand.tmp 127), type := 0, pos := "law.go:85", after := #[{ on := 3, ground := Ground.data }, { on := 4, ground := Ground.data }], guard := none }) (v := ?vv134) rfl (by kernel_rfl) (by kernel_rfl) (by kernel_rfl) (fun _ _ _ h => h) (Or.inl ⟨by rfl, ?hy134⟩) (by assumption) ?_
              case hy134 => (intro w hSw; (try dsimp only at hSw); go_simp; all_goals with_reducible rfl)
              try simp only [Act.put, List.setIfInBounds_toArray, List.set_cons_zero, List.set_cons_succ]
              refine wpAnyH_take (i := 6) (oi := { dst := some 129, op := Op.fieldAddr 65 (Operand.tmp 128) 4, type := 0, pos := "law.go:85", after := #[{ on := 5, ground := Ground.data }], guard := none }) (v := ?vv135) rfl (by kernel_rfl) (by kernel_rfl) (by kernel_rfl) (fun _ _ _ h => h) (Or.inl ⟨by rfl, ?hy135⟩) (by assumption) ?_
              case hy135 => (intro w hSw; (try dsimp only at hSw); go_simp; all_goals with_reducible rfl)
              try simp only [Act.put, List.setIfInBounds_toArray, List.set_cons_zero, List.set_cons_succ]
              refine wpAnyH_take (i := 7) (oi := { dst := some 130, op := Op.load 2 (Operand.tmp 129), type := 2, pos := "law.go:85", after := #[{ on := 6, ground := Ground.data }], guard := none }) (v := ?vv136) rfl (by kernel_rfl) (by kernel_rfl) (by kernel_rfl) (fun _ _ _ h => h) (Or.inl ⟨by rfl, ?hy136⟩) (by assumption) ?_
              case hy136 => (intro w hSw; (try dsimp only at hSw); go_simp; all_goals with_reducible rfl)
              try simp only [Act.put, List.setIfInBounds_toArray, List.set_cons_zero, List.set_cons_succ]
              refine wpAnyH_ready (rs := [8]) (by kernel_rfl) (by simp) ?_
              refine AllReadyH.cons (o := { dst := some 131, op := Op.call { callee := Callee.value (Operand.func 24), args := #[Operand.tmp 125, Operand.tmp 130], argTypes := #[61, 2] }, type := 0, pos := "law.go:85", after := #[{ on := 2, ground := Ground.data }, { on := 7, ground := Ground.data }], guard := none }) rfl (fun K hK => ?_) AllReadyH.nil
              go_simp
              refine (rmost_any W3 (H 1) (R 1) (kt _ _ _ (hPl.rf 1 (by decide)) (by decide) (by decide)) N).mono ?_
              rintro e' W4 ⟨rfl, hR, hk⟩
              go_wp2_with fail
              have hq := hPl.step 1 (by decide) hA kt hR hk ((hPl.rel 1 (by decide)).most N)
              refine hK.out _ _ ⟨(hq.cells 1 (by decide)).2, (hcells.out _ hq.all.bel).2.2.2.2⟩ (fun hHeld => ?_)
              clear hK K hHeld hS2
              try simp only [Act.put, List.setIfInBounds_toArray, List.set_cons_zero, List.set_cons_succ]
              refine wpAnyH_done (by kernel_rfl) ?_ _
              have hbd := bound_most (S := S) 1 (by decide) N hlen.out
              obtain ⟨V', S', R', hQ, hlq⟩ : ∃ V' S' R', Hid (Pl w W4 a7 (a7 + 1) G H V' S' R') ∧ Hid (∀ i, i < 2 → (S' i).wait.length ≤ (j + 1) * 1118576) := ⟨_, _, _, hq, hbd⟩
              clear hq hbd hA kt hR hk hPl hlen
              go_wp2_with fail
              replace hQ : Pl w _ a7 (a7 + 1) G H V' S' R' := hQ.out.drew
              refine wp_region_held_drew (S := fun W => W.cell? ⟨a7, 0, none⟩ = some (.pointer (some ⟨G 0, 0, none⟩)) ∧ W.cell? ⟨a7, 1, none⟩ = some (.pointer (some ⟨G 1, 0, none⟩)) ∧ W.cell? ⟨a7 + 1, 0, none⟩ = some (.pointer (some ⟨H 0, 0, none⟩)) ∧ W.cell? ⟨a7 + 1, 1, none⟩ = some (.pointer (some ⟨H 1, 0, none⟩))) (by kernel_rfl) ⟨(hQ.cells 0 (by decide)).1, (hQ.cells 1 (by decide)).1, (hQ.cells 0 (by decide)).2, (hQ.cells 1 (by decide)).2⟩ (fun hHeld => ?_)
              generalize hWg : World.drew _ = W9 at hQ hHeld ⊢
              clear hWg
              obtain ⟨Z, hZ⟩ : ∃ Z : Nat → Nat, ∀ q, q < 2 → (S' q).wait.length = Z q ∧ (R' q).b.size = Z q := ⟨fun q => (R' q).b.size, fun q hq => ⟨(hQ.rel q hq).len, rfl⟩⟩
              have hw13 : Hid (∀ q, q < 2 → Calls Tryd.prog 13 #[.pointer (some ⟨G q, 0, none⟩)] W9 fun e W' => e = .returned (.int .i64 (Z q : Int)) ∧ W' = W9) := fun q hq => by
                have := wait_all hQ.all q (fedL_get G V' S' q hq)
                rw [(hZ q hq).1] at this
                exact this
              have hw25 : Hid (∀ q, q < 2 → Calls Tryd.prog 25 #[.pointer (some ⟨H q, 0, none⟩)] W9 fun e W' => e = .returned (.int .i64 (Z q : Int)) ∧ W' = W9) := fun q hq => by
                have := rwait_any W9 (H q) (R' q) (hQ.rf q hq)
                rw [(hZ q hq).2] at this
                exact this
              replace hQ : Hid _ := hQ
              clear hZ
              have hH9 : Hid ((fun W => W.cell? ⟨a7, 0, none⟩ = some (.pointer (some ⟨G 0, 0, none⟩)) ∧ W.cell? ⟨a7, 1, none⟩ = some (.pointer (some ⟨G 1, 0, none⟩)) ∧ W.cell? ⟨a7 + 1, 0, none⟩ = some (.pointer (some ⟨H 0, 0, none⟩)) ∧ W.cell? ⟨a7 + 1, 1, none⟩ = some (.pointer (some ⟨H 1, 0, none⟩))) W9) := ⟨(hQ.out.cells 0 (by decide)).1, (hQ.out.cells 1 (by decide)).1, (hQ.out.cells 0 (by decide)).2, (hQ.out.cells 1 (by decide)).2⟩
              refine wpAnyH_take (i := 0) (oi := { dst := some 132, op := Op.indexAddr 60 (Operand.tmp 7) (Operand.const (Value.int IntKind.i64 0)), type := 0, pos := "law.go:87", after := #[], guard := none }) (v := ?vv137) rfl (by kernel_rfl) (by kernel_rfl) (by kernel_rfl) (fun _ _ _ h => h) (Or.inl ⟨by rfl, ?hy137⟩) (by assumption) ?_
              case hy137 => (intro w hSw; (try dsimp only at hSw); go_simp; all_goals with_reducible rfl)
              try simp only [Act.put, List.setIfInBounds_toArray, List.set_cons_zero, List.set_cons_succ]
              refine wpAnyH_take (i := 1) (oi := { dst := some 133, op := Op.load 23 (Operand.tmp 132), type := 23, pos := "law.go:87", after := #[{ on := 0, ground := Ground.data }], guard := none }) (v := ?vv138) rfl (by kernel_rfl) (by kernel_rfl) (by kernel_rfl) (fun _ _ _ h => h) (Or.inl ⟨by rfl, ?hy138⟩) (by assumption) ?_
              case hy138 => (intro w hSw; (try dsimp only at hSw); go_simp; all_goals with_reducible rfl)
              try simp only [Act.put, List.setIfInBounds_toArray, List.set_cons_zero, List.set_cons_succ]
              refine wpAnyH_take (i := 3) (oi := { dst := some 135, op := Op.indexAddr 62 (Operand.tmp 8) (Operand.const (Value.int IntKind.i64 0)), type := 0, pos := "law.go:87", after := #[], guard := none }) (v := ?vv139) rfl (by kernel_rfl) (by kernel_rfl) (by kernel_rfl) (fun _ _ _ h => h) (Or.inl ⟨by rfl, ?hy139⟩) (by assumption) ?_
              case hy139 => (intro w hSw; (try dsimp only at hSw); go_simp; all_goals with_reducible rfl)
              try simp only [Act.put, List.setIfInBounds_toArray, List.set_cons_zero, List.set_cons_succ]
              refine wpAnyH_take (i := 4) (oi := { dst := some 136, op := Op.load 61 (Operand.tmp 135), type := 61, pos := "law.go:87", after := #[{ on := 3, ground := Ground.data }], guard := none }) (v := ?vv140) rfl (by kernel_rfl) (by kernel_rfl) (by kernel_rfl) (fun _ _ _ h => h) (Or.inl ⟨by rfl, ?hy140⟩) (by assumption) ?_
              case hy140 => (intro w hSw; (try dsimp only at hSw); go_simp; all_goals with_reducible rfl)
              try simp only [Act.put, List.setIfInBounds_toArray, List.set_cons_zero, List.set_cons_succ]
              refine wpAnyH_ready (rs := [2]) (by kernel_rfl) (by simp) ?_
              refine AllReadyH.cons (o := { dst := some 134, op := Op.call { callee := Callee.value (Operand.func 13), args := #[Operand.tmp 133], argTypes := #[23] }, type := 3, pos := "law.go:87", after := #[{ on := 1, ground := Ground.data }], guard := none }) rfl (fun K hK => ?_) AllReadyH.nil
              go_simp
              refine (hw13.out 0 (by decide)).mono ?_
              rintro e' W10 ⟨rfl, rfl⟩
              go_wp2_with fail
              refine hK.out _ _ hH9.out (fun hHeld => ?_)
              clear hK K
              try simp only [Act.put, List.setIfInBounds_toArray, List.set_cons_zero, List.set_cons_succ]
              refine wpAnyH_ready (rs := [5]) (by kernel_rfl) (by simp) ?_
              refine AllReadyH.cons (o := { dst := some 137, op := Op.call { callee := Callee.value (Operand.func 25), args := #[Operand.tmp 136], argTypes := #[61] }, type := 3, pos := "law.go:87", after := #[{ on := 4, ground := Ground.data }, { on := 2, ground := Ground.chain }], guard := none }) rfl (fun K hK => ?_) AllReadyH.nil
              go_simp
              refine (hw25.out 0 (by decide)).mono ?_
              rintro e' W10 ⟨rfl, rfl⟩
              go_wp2_with fail
              refine hK.out _ _ hH9.out (fun hHeld => ?_)
              clear hK K
              try simp only [Act.put, List.setIfInBounds_toArray, List.set_cons_zero, List.set_cons_succ]
              refine wpAnyH_take (i := 6) (oi := { dst := some 138, op := Op.binOp BinOp.neq 3 (Operand.tmp 134) (Operand.tmp 137) 3, type := 4, pos := "law.go:87", after := #[{ on := 2, ground := Ground.data }, { on := 5, ground := Ground.data }], guard := none }) (v := ?vv141) rfl (by kernel_rfl) (by kernel_rfl) (by kernel_rfl) (fun _ _ _ h => h) (Or.inl ⟨by rfl, ?hy141⟩) (by assumption) ?_
              case hy141 => (intro w hSw; (try dsimp only at hSw); go_simp; all_goals with_reducible rfl)
              try simp only [Act.put, List.setIfInBounds_toArray, List.set_cons_zero, List.set_cons_succ]
              refine wpAnyH_take (i := 7) (oi := { dst := some 139, op := Op.move (Operand.tmp 138), type := 4, pos := "law.go:87", after := #[{ on := 6, ground := Ground.data }, { on := 5, ground := Ground.chain }], guard := none }) (v := ?vv142) rfl (by kernel_rfl) (by kernel_rfl) (by kernel_rfl) (fun _ _ _ h => h) (Or.inl ⟨by rfl, ?hy142⟩) (by assumption) ?_
              case hy142 => (intro w hSw; (try dsimp only at hSw); go_simp; all_goals with_reducible rfl)
              try simp only [Act.put, List.setIfInBounds_toArray, List.set_cons_zero, List.set_cons_succ]
              refine wpAnyH_take (i := 8) (oi := { dst := some 140, op := Op.indexAddr 60 (Operand.tmp 7) (Operand.const (Value.int IntKind.i64 1)), type := 0, pos := "law.go:87", after := #[{ on := 7, ground := Ground.guard }], guard := some (7, false) }) (v := ?vv143) rfl (by kernel_rfl) (by kernel_rfl) (by kernel_rfl) (fun _ _ _ h => h) (Or.inl ⟨by rfl, ?hy143⟩) (by assumption) ?_
              case hy143 => (intro w hSw; (try dsimp only at hSw); go_simp; all_goals with_reducible rfl)
              try simp only [Act.put, List.setIfInBounds_toArray, List.set_cons_zero, List.set_cons_succ]
              refine wpAnyH_take (i := 9) (oi := { dst := some 141, op := Op.load 23 (Operand.tmp 140), type := 23, pos := "law.go:87", after := #[{ on := 8, ground := Ground.data }, { on := 7, ground := Ground.guard }], guard := some (7, false) }) (v := ?vv144) rfl (by kernel_rfl) (by kernel_rfl) (by kernel_rfl) (fun _ _ _ h => h) (Or.inl ⟨by rfl, ?hy144⟩) (by assumption) ?_
              case hy144 => (intro w hSw; (try dsimp only at hSw); go_simp; all_goals with_reducible rfl)
              try simp only [Act.put, List.setIfInBounds_toArray, List.set_cons_zero, List.set_cons_succ]
              refine wpAnyH_take (i := 11) (oi := { dst := some 143, op := Op.indexAddr 62 (Operand.tmp 8) (Operand.const (Value.int IntKind.i64 1)), type := 0, pos := "law.go:87", after := #[{ on := 7, ground := Ground.guard }], guard := some (7, false) }) (v := ?vv145) rfl (by kernel_rfl) (by kernel_rfl) (by kernel_rfl) (fun _ _ _ h => h) (Or.inl ⟨by rfl, ?hy145⟩) (by assumption) ?_
              case hy145 => (intro w hSw; (try dsimp only at hSw); go_simp; all_goals with_reducible rfl)
              try simp only [Act.put, List.setIfInBounds_toArray, List.set_cons_zero, List.set_cons_succ]
              refine wpAnyH_take (i := 12) (oi := { dst := some 144, op := Op.load 61 (Operand.tmp 143), type := 61, pos := "law.go:87", after := #[{ on := 11, ground := Ground.data }, { on := 7, ground := Ground.guard }], guard := some (7, false) }) (v := ?vv146) rfl (by kernel_rfl) (by kernel_rfl) (by kernel_rfl) (fun _ _ _ h => h) (Or.inl ⟨by rfl, ?hy146⟩) (by assumption) ?_
              case hy146 => (intro w hSw; (try dsimp only at hSw); go_simp; all_goals with_reducible rfl)
              try simp only [Act.put, List.setIfInBounds_toArray, List.set_cons_zero, List.set_cons_succ]
              refine wpAnyH_ready (rs := [10]) (by kernel_rfl) (by simp) ?_
              refine AllReadyH.cons (o := { dst := some 142, op := Op.call { callee := Callee.value (Operand.func 13), args := #[Operand.tmp 141], argTypes := #[23] }, type := 3, pos := "law.go:87", after := #[{ on := 9, ground := Ground.data }, { on := 7, ground := Ground.chain }, { on := 7, ground := Ground.guard }], guard := some (7, false) }) rfl (fun K hK => ?_) AllReadyH.nil
              go_simp
              refine (hw13.out 1 (by decide)).mono ?_
              rintro e' W10 ⟨rfl, rfl⟩
              go_wp2_with fail
              refine hK.out _ _ hH9.out (fun hHeld => ?_)
              clear hK K
              try simp only [Act.put, List.setIfInBounds_toArray, List.set_cons_zero, List.set_cons_succ]
              refine wpAnyH_ready (rs := [13]) (by kernel_rfl) (by simp) ?_
              refine AllReadyH.cons (o := { dst := some 145, op := Op.call { callee := Callee.value (Operand.func 25), args := #[Operand.tmp 144], argTypes := #[61] }, type := 3, pos := "law.go:87", after := #[{ on := 12, ground := Ground.data }, { on := 10, ground := Ground.chain }, { on := 7, ground := Ground.guard }], guard := some (7, false) }) rfl (fun K hK => ?_) AllReadyH.nil
              go_simp
              refine (hw25.out 1 (by decide)).mono ?_
              rintro e' W10 ⟨rfl, rfl⟩
              go_wp2_with fail
              refine hK.out _ _ hH9.out (fun hHeld => ?_)
              clear hK K
              try simp only [Act.put, List.setIfInBounds_toArray, List.set_cons_zero, List.set_cons_succ]
              refine wpAnyH_take (i := 14) (oi := { dst := some 146, op := Op.binOp BinOp.neq 3 (Operand.tmp 142) (Operand.tmp 145) 3, type := 4, pos := "law.go:87", after := #[{ on := 10, ground := Ground.data }, { on := 13, ground := Ground.data }, { on := 7, ground := Ground.guard }], guard := some (7, false) }) (v := ?vv147) rfl (by kernel_rfl) (by kernel_rfl) (by kernel_rfl) (fun _ _ _ h => h) (Or.inl ⟨by rfl, ?hy147⟩) (by assumption) ?_
              case hy147 => (intro w hSw; (try dsimp only at hSw); go_simp; all_goals with_reducible rfl)
              try simp only [Act.put, List.setIfInBounds_toArray, List.set_cons_zero, List.set_cons_succ]
              refine wpAnyH_take (i := 15) (oi := { dst := some 147, op := Op.pick (Operand.tmp 139) (Operand.const (Value.bool true)) (Operand.tmp 146), type := 4, pos := "law.go:87", after := #[{ on := 7, ground := Ground.data }, { on := 14, ground := Ground.data }], guard := none }) (v := ?vv148) rfl (by kernel_rfl) (by kernel_rfl) (by kernel_rfl) (fun _ _ _ h => h) (Or.inl ⟨by rfl, ?hy148⟩) (by assumption) ?_
              case hy148 => (intro w hSw; (try dsimp only at hSw); go_simp; all_goals with_reducible rfl)
              try simp only [Act.put, List.setIfInBounds_toArray, List.set_cons_zero, List.set_cons_succ]
              refine wpAnyH_done (by kernel_rfl) ?_ _
              go_wp2_with fail
              go_roundw
              case rel => exact ⟨j + 1, G, H, V', S', R', hlt, by simp, hQ.out, hlq.out⟩
              case measure => simp [intOf]; omega
            have k1 : (kind == 1) = false := by simpa using h1
            have k2 : (kind == 2) = false := by simpa using h2
            have k3 : (kind == 3) = false := by simpa using h3
            clear h1 h2 h3
            replace hlen : Hid (∀ i, i < 2 → (S i).wait.length ≤ (j + 1) * 1118576) := fun i hi => Nat.le_trans (hlen.out i hi) (Nat.mul_le_mul_right _ (Nat.le_succ _))
            obtain ⟨V', S', R', hQ, hlq⟩ : ∃ V' S' R', Hid (Pl w wr a7 (a7 + 1) G H V' S' R') ∧ Hid (∀ i, i < 2 → (S' i).wait.length ≤ (j + 1) * 1118576) := ⟨_, _, _, hPl.out, hlen.out⟩
            clear hPl hlen
            go_wp2_with fail
            replace hQ : Pl w _ a7 (a7 + 1) G H V' S' R' := hQ.out.drew
            refine wp_region_held_drew (S := fun W => W.cell? ⟨a7, 0, none⟩ = some (.pointer (some ⟨G 0, 0, none⟩)) ∧ W.cell? ⟨a7, 1, none⟩ = some (.pointer (some ⟨G 1, 0, none⟩)) ∧ W.cell? ⟨a7 + 1, 0, none⟩ = some (.pointer (some ⟨H 0, 0, none⟩)) ∧ W.cell? ⟨a7 + 1, 1, none⟩ = some (.pointer (some ⟨H 1, 0, none⟩))) (by kernel_rfl) ⟨(hQ.cells 0 (by decide)).1, (hQ.cells 1 (by decide)).1, (hQ.cells 0 (by decide)).2, (hQ.cells 1 (by decide)).2⟩ (fun hHeld => ?_)
            generalize hWg : World.drew _ = W9 at hQ hHeld ⊢
            clear hWg
            obtain ⟨Z, hZ⟩ : ∃ Z : Nat → Nat, ∀ q, q < 2 → (S' q).wait.length = Z q ∧ (R' q).b.size = Z q := ⟨fun q => (R' q).b.size, fun q hq => ⟨(hQ.rel q hq).len, rfl⟩⟩
            have hw13 : Hid (∀ q, q < 2 → Calls Tryd.prog 13 #[.pointer (some ⟨G q, 0, none⟩)] W9 fun e W' => e = .returned (.int .i64 (Z q : Int)) ∧ W' = W9) := fun q hq => by
              have := wait_all hQ.all q (fedL_get G V' S' q hq)
              rw [(hZ q hq).1] at this
              exact this
            have hw25 : Hid (∀ q, q < 2 → Calls Tryd.prog 25 #[.pointer (some ⟨H q, 0, none⟩)] W9 fun e W' => e = .returned (.int .i64 (Z q : Int)) ∧ W' = W9) := fun q hq => by
              have := rwait_any W9 (H q) (R' q) (hQ.rf q hq)
              rw [(hZ q hq).2] at this
              exact this
            replace hQ : Hid _ := hQ
            clear hZ
            have hH9 : Hid ((fun W => W.cell? ⟨a7, 0, none⟩ = some (.pointer (some ⟨G 0, 0, none⟩)) ∧ W.cell? ⟨a7, 1, none⟩ = some (.pointer (some ⟨G 1, 0, none⟩)) ∧ W.cell? ⟨a7 + 1, 0, none⟩ = some (.pointer (some ⟨H 0, 0, none⟩)) ∧ W.cell? ⟨a7 + 1, 1, none⟩ = some (.pointer (some ⟨H 1, 0, none⟩))) W9) := ⟨(hQ.out.cells 0 (by decide)).1, (hQ.out.cells 1 (by decide)).1, (hQ.out.cells 0 (by decide)).2, (hQ.out.cells 1 (by decide)).2⟩
            refine wpAnyH_take (i := 0) (oi := { dst := some 132, op := Op.indexAddr 60 (Operand.tmp 7) (Operand.const (Value.int IntKind.i64 0)), type := 0, pos := "law.go:87", after := #[], guard := none }) (v := ?vv149) rfl (by kernel_rfl) (by kernel_rfl) (by kernel_rfl) (fun _ _ _ h => h) (Or.inl ⟨by rfl, ?hy149⟩) (by assumption) ?_
            case hy149 => (intro w hSw; (try dsimp only at hSw); go_simp; all_goals with_reducible rfl)
            try simp only [Act.put, List.setIfInBounds_toArray, List.set_cons_zero, List.set_cons_succ]
            refine wpAnyH_take (i := 1) (oi := { dst := some 133, op := Op.load 23 (Operand.tmp 132), type := 23, pos := "law.go:87", after := #[{ on := 0, ground := Ground.data }], guard := none }) (v := ?vv150) rfl (by kernel_rfl) (by kernel_rfl) (by kernel_rfl) (fun _ _ _ h => h) (Or.inl ⟨by rfl, ?hy150⟩) (by assumption) ?_
            case hy150 => (intro w hSw; (try dsimp only at hSw); go_simp; all_goals with_reducible rfl)
            try simp only [Act.put, List.setIfInBounds_toArray, List.set_cons_zero, List.set_cons_succ]
            refine wpAnyH_take (i := 3) (oi := { dst := some 135, op := Op.indexAddr 62 (Operand.tmp 8) (Operand.const (Value.int IntKind.i64 0)), type := 0, pos := "law.go:87", after := #[], guard := none }) (v := ?vv151) rfl (by kernel_rfl) (by kernel_rfl) (by kernel_rfl) (fun _ _ _ h => h) (Or.inl ⟨by rfl, ?hy151⟩) (by assumption) ?_
            case hy151 => (intro w hSw; (try dsimp only at hSw); go_simp; all_goals with_reducible rfl)
            try simp only [Act.put, List.setIfInBounds_toArray, List.set_cons_zero, List.set_cons_succ]
            refine wpAnyH_take (i := 4) (oi := { dst := some 136, op := Op.load 61 (Operand.tmp 135), type := 61, pos := "law.go:87", after := #[{ on := 3, ground := Ground.data }], guard := none }) (v := ?vv152) rfl (by kernel_rfl) (by kernel_rfl) (by kernel_rfl) (fun _ _ _ h => h) (Or.inl ⟨by rfl, ?hy152⟩) (by assumption) ?_
            case hy152 => (intro w hSw; (try dsimp only at hSw); go_simp; all_goals with_reducible rfl)
            try simp only [Act.put, List.setIfInBounds_toArray, List.set_cons_zero, List.set_cons_succ]
            refine wpAnyH_ready (rs := [2]) (by kernel_rfl) (by simp) ?_
            refine AllReadyH.cons (o := { dst := some 134, op := Op.call { callee := Callee.value (Operand.func 13), args := #[Operand.tmp 133], argTypes := #[23] }, type := 3, pos := "law.go:87", after := #[{ on := 1, ground := Ground.data }], guard := none }) rfl (fun K hK => ?_) AllReadyH.nil
            go_simp
            refine (hw13.out 0 (by decide)).mono ?_
            rintro e' W10 ⟨rfl, rfl⟩
            go_wp2_with fail
            refine hK.out _ _ hH9.out (fun hHeld => ?_)
            clear hK K
            try simp only [Act.put, List.setIfInBounds_toArray, List.set_cons_zero, List.set_cons_succ]
            refine wpAnyH_ready (rs := [5]) (by kernel_rfl) (by simp) ?_
            refine AllReadyH.cons (o := { dst := some 137, op := Op.call { callee := Callee.value (Operand.func 25), args := #[Operand.tmp 136], argTypes := #[61] }, type := 3, pos := "law.go:87", after := #[{ on := 4, ground := Ground.data }, { on := 2, ground := Ground.chain }], guard := none }) rfl (fun K hK => ?_) AllReadyH.nil
            go_simp
            refine (hw25.out 0 (by decide)).mono ?_
            rintro e' W10 ⟨rfl, rfl⟩
            go_wp2_with fail
            refine hK.out _ _ hH9.out (fun hHeld => ?_)
            clear hK K
            try simp only [Act.put, List.setIfInBounds_toArray, List.set_cons_zero, List.set_cons_succ]
            refine wpAnyH_take (i := 6) (oi := { dst := some 138, op := Op.binOp BinOp.neq 3 (Operand.tmp 134) (Operand.tmp 137) 3, type := 4, pos := "law.go:87", after := #[{ on := 2, ground := Ground.data }, { on := 5, ground := Ground.data }], guard := none }) (v := ?vv153) rfl (by kernel_rfl) (by kernel_rfl) (by kernel_rfl) (fun _ _ _ h => h) (Or.inl ⟨by rfl, ?hy153⟩) (by assumption) ?_
            case hy153 => (intro w hSw; (try dsimp only at hSw); go_simp; all_goals with_reducible rfl)
            try simp only [Act.put, List.setIfInBounds_toArray, List.set_cons_zero, List.set_cons_succ]
            refine wpAnyH_take (i := 7) (oi := { dst := some 139, op := Op.move (Operand.tmp 138), type := 4, pos := "law.go:87", after := #[{ on := 6, ground := Ground.data }, { on := 5, ground := Ground.chain }], guard := none }) (v := ?vv154) rfl (by kernel_rfl) (by kernel_rfl) (by kernel_rfl) (fun _ _ _ h => h) (Or.inl ⟨by rfl, ?hy154⟩) (by assumption) ?_
            case hy154 => (intro w hSw; (try dsimp only at hSw); go_simp; all_goals with_reducible rfl)
            try simp only [Act.put, List.setIfInBounds_toArray, List.set_cons_zero, List.set_cons_succ]
            refine wpAnyH_take (i := 8) (oi := { dst := some 140, op := Op.indexAddr 60 (Operand.tmp 7) (Operand.const (Value.int IntKind.i64 1)), type := 0, pos := "law.go:87", after := #[{ on := 7, ground := Ground.guard }], guard := some (7, false) }) (v := ?vv155) rfl (by kernel_rfl) (by kernel_rfl) (by kernel_rfl) (fun _ _ _ h => h) (Or.inl ⟨by rfl, ?hy155⟩) (by assumption) ?_
            case hy155 => (intro w hSw; (try dsimp only at hSw); go_simp; all_goals with_reducible rfl)
            try simp only [Act.put, List.setIfInBounds_toArray, List.set_cons_zero, List.set_cons_succ]
            refine wpAnyH_take (i := 9) (oi := { dst := some 141, op := Op.load 23 (Operand.tmp 140), type := 23, pos := "law.go:87", after := #[{ on := 8, ground := Ground.data }, { on := 7, ground := Ground.guard }], guard := some (7, false) }) (v := ?vv156) rfl (by kernel_rfl) (by kernel_rfl) (by kernel_rfl) (fun _ _ _ h => h) (Or.inl ⟨by rfl, ?hy156⟩) (by assumption) ?_
            case hy156 => (intro w hSw; (try dsimp only at hSw); go_simp; all_goals with_reducible rfl)
            try simp only [Act.put, List.setIfInBounds_toArray, List.set_cons_zero, List.set_cons_succ]
            refine wpAnyH_take (i := 11) (oi := { dst := some 143, op := Op.indexAddr 62 (Operand.tmp 8) (Operand.const (Value.int IntKind.i64 1)), type := 0, pos := "law.go:87", after := #[{ on := 7, ground := Ground.guard }], guard := some (7, false) }) (v := ?vv157) rfl (by kernel_rfl) (by kernel_rfl) (by kernel_rfl) (fun _ _ _ h => h) (Or.inl ⟨by rfl, ?hy157⟩) (by assumption) ?_
            case hy157 => (intro w hSw; (try dsimp only at hSw); go_simp; all_goals with_reducible rfl)
            try simp only [Act.put, List.setIfInBounds_toArray, List.set_cons_zero, List.set_cons_succ]
            refine wpAnyH_take (i := 12) (oi := { dst := some 144, op := Op.load 61 (Operand.tmp 143), type := 61, pos := "law.go:87", after := #[{ on := 11, ground := Ground.data }, { on := 7, ground := Ground.guard }], guard := some (7, false) }) (v := ?vv158) rfl (by kernel_rfl) (by kernel_rfl) (by kernel_rfl) (fun _ _ _ h => h) (Or.inl ⟨by rfl, ?hy158⟩) (by assumption) ?_
            case hy158 => (intro w hSw; (try dsimp only at hSw); go_simp; all_goals with_reducible rfl)
            try simp only [Act.put, List.setIfInBounds_toArray, List.set_cons_zero, List.set_cons_succ]
            refine wpAnyH_ready (rs := [10]) (by kernel_rfl) (by simp) ?_
            refine AllReadyH.cons (o := { dst := some 142, op := Op.call { callee := Callee.value (Operand.func 13), args := #[Operand.tmp 141], argTypes := #[23] }, type := 3, pos := "law.go:87", after := #[{ on := 9, ground := Ground.data }, { on := 7, ground := Ground.chain }, { on := 7, ground := Ground.guard }], guard := some (7, false) }) rfl (fun K hK => ?_) AllReadyH.nil
            go_simp
            refine (hw13.out 1 (by decide)).mono ?_
            rintro e' W10 ⟨rfl, rfl⟩
            go_wp2_with fail
            refine hK.out _ _ hH9.out (fun hHeld => ?_)
            clear hK K
            try simp only [Act.put, List.setIfInBounds_toArray, List.set_cons_zero, List.set_cons_succ]
            refine wpAnyH_ready (rs := [13]) (by kernel_rfl) (by simp) ?_
            refine AllReadyH.cons (o := { dst := some 145, op := Op.call { callee := Callee.value (Operand.func 25), args := #[Operand.tmp 144], argTypes := #[61] }, type := 3, pos := "law.go:87", after := #[{ on := 12, ground := Ground.data }, { on := 10, ground := Ground.chain }, { on := 7, ground := Ground.guard }], guard := some (7, false) }) rfl (fun K hK => ?_) AllReadyH.nil
            go_simp
            refine (hw25.out 1 (by decide)).mono ?_
            rintro e' W10 ⟨rfl, rfl⟩
            go_wp2_with fail
            refine hK.out _ _ hH9.out (fun hHeld => ?_)
            clear hK K
            try simp only [Act.put, List.setIfInBounds_toArray, List.set_cons_zero, List.set_cons_succ]
            refine wpAnyH_take (i := 14) (oi := { dst := some 146, op := Op.binOp BinOp.neq 3 (Operand.tmp 142) (Operand.tmp 145) 3, type := 4, pos := "law.go:87", after := #[{ on := 10, ground := Ground.data }, { on := 13, ground := Ground.data }, { on := 7, ground := Ground.guard }], guard := some (7, false) }) (v := ?vv159) rfl (by kernel_rfl) (by kernel_rfl) (by kernel_rfl) (fun _ _ _ h => h) (Or.inl ⟨by rfl, ?hy159⟩) (by assumption) ?_
            case hy159 => (intro w hSw; (try dsimp only at hSw); go_simp; all_goals with_reducible rfl)
            try simp only [Act.put, List.setIfInBounds_toArray, List.set_cons_zero, List.set_cons_succ]
            refine wpAnyH_take (i := 15) (oi := { dst := some 147, op := Op.pick (Operand.tmp 139) (Operand.const (Value.bool true)) (Operand.tmp 146), type := 4, pos := "law.go:87", after := #[{ on := 7, ground := Ground.data }, { on := 14, ground := Ground.data }], guard := none }) (v := ?vv160) rfl (by kernel_rfl) (by kernel_rfl) (by kernel_rfl) (fun _ _ _ h => h) (Or.inl ⟨by rfl, ?hy160⟩) (by assumption) ?_
            case hy160 => (intro w hSw; (try dsimp only at hSw); go_simp; all_goals with_reducible rfl)
            try simp only [Act.put, List.setIfInBounds_toArray, List.set_cons_zero, List.set_cons_succ]
            refine wpAnyH_done (by kernel_rfl) ?_ _
            go_wp2_with fail
            go_roundw
            case rel => exact ⟨j + 1, G, H, V', S', R', hlt, by simp, hQ.out, hlq.out⟩
            case measure => simp [intOf]; omega
        · have hlt' : ¬ (j : Int) < (sl : Int) := by omega
          go_wp2_with fail
          go_ret
          exact ⟨rfl, hPl.out.all.bel⟩
end Go.Proofs.YtmhbaaemihljjaaDoor
