/- FeedChunks: what the law's loops keep. -/
import Derived.Test.YtmhbaaemihljjaaDoorN3
import Derived.Test.YtmhbaaemihljjaaDoorN5
namespace Go.Proofs.YtmhbaaemihljjaaDoor
open Go.RowKit
set_option linter.unusedVariables false
set_option linter.unusedSimpArgs false

abbrev Tld := List Tl × (Int × Int) × St

/-- With what is told so far, and these bytes still to come, it comes to T. -/
def Comes' (T : Tld) (S : St) (tb : List Tl) (R : ByteArray) : Prop := T = (tb ++ (dn (pushS S R)).1, (dn (pushS S R)).2)

theorem ok_push {m : Int} {S : St} (h : Ok m S) (s : ByteArray) : Ok m (pushS S s) := by
  rcases h with ⟨a, W, rfl⟩ | ⟨c, hc, rfl⟩
  · rw [push_alive]; exact .inl ⟨_, _, rfl⟩
  · rw [push_dead' c hc]; exact .inr ⟨c, hc, rfl⟩
theorem ok_dn {m : Int} {S : St} (h : Ok m S) : Ok m (dn S).2.2 := (conf m ⟨#[]⟩ _ S h (Nat.lt_succ_self _)).1
theorem push_len {m : Int} {S : St} (h : Ok m S) (s : ByteArray) : (pushS S s).wait.length ≤ S.wait.length + s.size := by
  rcases h with ⟨a, W, rfl⟩ | ⟨c, hc, rfl⟩
  · rw [push_alive]; show (W ++ s.data.toList).length ≤ _; rw [List.length_append]; simp
  · rw [push_dead' c hc]; omega

theorem dn_few (m : Int) : ∀ (k : Nat) (S : St), Ok m S → S.wait.length < k → (dn S).1.length + (dn S).2.2.wait.length ≤ S.wait.length := by
  intro k
  induction k with
  | zero => intro S _ h; omega
  | succ k ih =>
    intro S hS hk
    have hc := (conf m ⟨#[]⟩ _ S hS (Nat.lt_succ_self _)).2.1
    rcases dn_cases m S hS with ⟨fp, ok, c, x, S', _, _, hok', hl, hdn⟩ | ⟨c, S', _, _, hdn⟩
    · have := ih S' hok' (by omega)
      rw [hdn]
      simp only [List.length_cons]
      omega
    · rw [hdn] at hc ⊢
      simpa using hc

theorem push_push {m : Int} {S : St} (h : Ok m S) (a b c : ByteArray) (hc : c.data.toList = a.data.toList ++ b.data.toList) : pushS (pushS S a) b = pushS S c := by
  rcases h with ⟨p, W, rfl⟩ | ⟨k, hk, rfl⟩
  · rw [push_alive, push_alive, push_alive, hc, List.append_assoc]
  · rw [push_dead' k hk, push_dead' k hk, push_dead' k hk]

theorem ext_split (b : ByteArray) (i j n : Nat) (h1 : i ≤ j) (h2 : j ≤ n) : (b.extract i n).data.toList = (b.extract i j).data.toList ++ (b.extract j n).data.toList := by
  simp only [ByteArray.data_extract, Array.toList_extract, List.extract_eq_take_drop]
  have : b.data.toList.drop j = (b.data.toList.drop i).drop (j - i) := by rw [List.drop_drop, show i + (j - i) = j by omega]
  rw [this, show n - i = (j - i) + (n - j) by omega, List.take_add]

theorem Comes'.push {T : Tld} {m : Int} {S : St} {tb : List Tl} {b : ByteArray} {i : Nat} (h : Comes' T S tb (b.extract i b.size)) (hS : Ok m S) (j : Nat) (h1 : i ≤ j) (h2 : j ≤ b.size) : Comes' T (pushS S (b.extract i j)) tb (b.extract j b.size) := by
  unfold Comes' at h ⊢
  rw [push_push hS _ _ _ (ext_split b i j b.size h1 h2)]
  exact h
theorem Comes'.drain {T : Tld} {m : Int} {S : St} {tb : List Tl} {R : ByteArray} (h : Comes' T S tb R) (hS : Ok m S) : Comes' T (dn S).2.2 (tb ++ (dn S).1) R := by
  unfold Comes' at h ⊢
  rw [(conf m R _ S hS (Nat.lt_succ_self _)).2.2] at h
  rw [h, List.append_assoc]
theorem push_none (m : Int) (S : St) (hS : Ok m S) (R : ByteArray) (hR : R.data.toList = []) : pushS S R = S := by
  rcases hS with ⟨a, W, rfl⟩ | ⟨c, hc, rfl⟩
  · rw [push_alive, hR, List.append_nil]
  · rw [push_dead' c hc]
theorem Comes'.fin {T : Tld} {m : Int} {S : St} {tb : List Tl} {b : ByteArray} (h : Comes' T S tb (b.extract b.size b.size)) (hS : Ok m S) : T = (tb ++ (dn S).1, (dn S).2) := by
  unfold Comes' at h
  rw [push_none m S hS _ (by simp)] at h
  exact h

def Far (v u : Value) : Prop := ∀ k, v.ownBlock = some k → u.ownBlock ≠ some k
theorem Far.symm {v u : Value} (h : Far v u) : Far u v := fun k hk e => h k e hk
theorem TRow.lt {W : World} {v : Value} {ts : List Tl} (h : TRow W v ts) (k : Nat) (hk : v.ownBlock = some k) : k < W.heap.size := by
  obtain ⟨cur, hc⟩ := h.type k hk
  exact (Array.getElem?_eq_some_iff.1 hc).1
theorem Far.later {W : World} {v v' u : Value} {ts : List Tl} (h : Far v u) (hu : TRow W u ts) (hown : ∀ k, v'.ownBlock = some k → v.ownBlock = some k ∨ W.heap.size ≤ k) : Far v' u := fun k hk e => by
  rcases hown k hk with h1 | h1
  · exact h k h1 e
  · have := hu.lt k e
    omega
theorem far_none (u : Value) : Far (.slice none 0 0) u := fun k hk => by simp [Value.ownBlock] at hk

/-- stores into a box -/
theorem TRow.box {W : World} {v : Value} {ts : List Tl} (h : TRow W v ts) (a : Nat) (cs : Array Value) (ha : W.heap[a]? = some (.cells cs 30 (0, 0))) (l : List (Nat × Value)) : TRow (sets W a l) v ts :=
  h.same (fun k hk => sets_other _ _ (fun e => by
    obtain ⟨cur, hc⟩ := h.type k hk
    rw [e, ha] at hc
    simp at hc) _ _) (fun b n c ps hp => hp.below fun k hk _ => sets_other _ _ (fun e => by
    obtain ⟨cur, hc⟩ := hp.type k hk
    rw [e, ha] at hc
    simp at hc) _ _)

set_option maxRecDepth 100000 in
set_option maxHeartbeats 400000 in
theorem most_walk (n : Int) (w : World) : Calls Tryd.prog 15 #[.int .i64 n] w fun e w' => ∃ m, e = .returned (.int .i64 m) ∧ w' = w := by
  by_cases h : n < 0
  · go_enter Tryd.func15, Tryd.ntmps15
    go_wp2
    go_ret
    first | exact ⟨_, rfl, rfl⟩ | exact ⟨⟨_, rfl⟩, rfl⟩ | exact ⟨_, rfl⟩
  · go_enter Tryd.func15, Tryd.ntmps15
    go_wp2
    go_ret
    first | exact ⟨_, rfl, rfl⟩ | exact ⟨⟨_, rfl⟩, rfl⟩ | exact ⟨_, rfl⟩

/-- all that the law holds at the loops -/
structure Ch (w W : World) (fs : List Fed) (va vb vc : Value) (ta tb tc : List Tl) : Prop where
  all : All w W fs
  ra : TRow W va ta
  rb : TRow W vb tb
  rc : TRow W vc tc
  na : ∀ k, va.ownBlock = some k → w.heap.size ≤ k
  nb : ∀ k, vb.ownBlock = some k → w.heap.size ≤ k
  nc : ∀ k, vc.ownBlock = some k → w.heap.size ≤ k
  ab : Far va vb
  ac : Far va vc
  bc : Far vb vc
theorem Ch.kt {w W W' : World} {fs fs' : List Fed} {va vb vc : Value} {ta tb tc : List Tl} (h : Ch w W fs va vb vc ta tb tc) (hA : All w W' fs') (hk : Kt W W') : Ch w W' fs' va vb vc ta tb tc :=
  ⟨hA, h.ra.kt hk, h.rb.kt hk, h.rc.kt hk, h.na, h.nb, h.nc, h.ab, h.ac, h.bc⟩
theorem Ch.box {w W : World} {fs : List Fed} {va vb vc : Value} {ta tb tc : List Tl} (h : Ch w W fs va vb vc ta tb tc) (a : Nat) (cs : Array Value) (ha : W.heap[a]? = some (.cells cs 30 (0, 0))) (hw : w.heap.size ≤ a) (l : List (Nat × Value)) : Ch w (sets W a l) fs va vb vc ta tb tc :=
  ⟨h.all.sets a cs 30 ha (by decide) (by decide) hw l, h.ra.box a cs ha l, h.rb.box a cs ha l, h.rc.box a cs ha l, h.na, h.nb, h.nc, h.ab, h.ac, h.bc⟩
/-- the second row grows -/
theorem Ch.growB {w W W' : World} {fs fs' : List Fed} {va vb vb' vc : Value} {ta tb tb' tc : List Tl} (h : Ch w W fs va vb vc ta tb tc) (hA : All w W' fs') (hR : TRow W' vb' tb') (hk : Ku vb.ownBlock W W') (hown : ∀ k, vb'.ownBlock = some k → vb.ownBlock = some k ∨ W.heap.size ≤ k) : Ch w W' fs' va vb' vc ta tb' tc := by
  have hsz := h.all.bel.size
  exact ⟨hA, h.ra.ku hk (fun k hk' => h.ab k hk') h.rb.type, hR, h.rc.ku hk (fun k hk' e => h.bc k e hk') h.rb.type, h.na, fun k hk' => (hown k hk').elim (h.nb k) (fun h1 => Nat.le_trans hsz h1), h.nc, (Far.later h.ab.symm h.ra hown).symm, h.ac, Far.later h.bc h.rc hown⟩
theorem Ch.growC {w W W' : World} {fs fs' : List Fed} {va vb vc vc' : Value} {ta tb tc tc' : List Tl} (h : Ch w W fs va vb vc ta tb tc) (hA : All w W' fs') (hR : TRow W' vc' tc') (hk : Ku vc.ownBlock W W') (hown : ∀ k, vc'.ownBlock = some k → vc.ownBlock = some k ∨ W.heap.size ≤ k) : Ch w W' fs' va vb vc' ta tb tc' := by
  have hsz := h.all.bel.size
  exact ⟨hA, h.ra.ku hk (fun k hk' => h.ac k hk') h.rc.type, h.rb.ku hk (fun k hk' => h.bc k hk') h.rc.type, hR, h.na, h.nb, fun k hk' => (hown k hk').elim (h.nc k) (fun h1 => Nat.le_trans hsz h1), h.ab, (Far.later h.ac.symm h.ra hown).symm, (Far.later h.bc.symm h.rb hown).symm⟩
end Go.Proofs.YtmhbaaemihljjaaDoor
