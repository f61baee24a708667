/- Fields and texts in rows; Values of both sides. -/
import Derived.Test.YtfponcdhaefkdaaDoorM2
namespace Go.Proofs.YtfponcdhaefkdaaDoor
open Go.RowKit
set_option linter.unusedVariables false
set_option linter.unusedSimpArgs false

/-- a field -/
structure Fd where
  n : ByteArray
  v : ByteArray
  nv : Bool
def fdv (f : Fd) : Array Value := #[.string f.n, .string f.v, .bool f.nv]
def EFd : El Fd := ⟨22, 51, 3, 40, fun f => (fdv f).toList⟩
def ES : El ByteArray := ⟨27, 9, 1, 16, fun s => [.string s]⟩
theorem okFd : EFd.Ok := ⟨Tryd.underlying22, by kernel_rfl, by decide, by decide, fun _ => rfl, fun a u hu => by
  simp only [EFd, fdv, List.mem_cons, List.not_mem_nil, or_false] at hu
  rcases hu with rfl | rfl | rfl <;> rfl⟩
theorem okS : ES.Ok := ⟨Tryd.underlying27, by kernel_rfl, by decide, by decide, fun _ => rfl, fun a u hu => by
  simp only [ES, List.mem_cons, List.not_mem_nil, or_false] at hu
  rcases hu with rfl; rfl⟩
/-- Block g holds a field. -/
def FdB (w : World) (g : Nat) (f : Fd) : Prop := w.heap[g]? = some (.cells (fdv f) 51 (0, 0))
theorem FdB.below {w w' : World} {g : Nat} {f : Fd} (h : FdB w g f) (hb : Below w.heap.size w w') : FdB w' g f := (hb.block g (heap_lt h)).trans h
theorem FdB.cells {w : World} {g : Nat} {f : Fd} (h : FdB w g f) : w.cell? ⟨g, 0, none⟩ = some (.string f.n) ∧ w.cell? ⟨g, 1, none⟩ = some (.string f.v) ∧ w.cell? ⟨g, 2, none⟩ = some (.bool f.nv) := ⟨cell_blk h 0, cell_blk h 1, cell_blk h 2⟩
theorem fd_new (w : World) (f : Fd) : FdB (w.alloc (.cells (fdv f) 51)) w.heap.size f := by unfold FdB; rw [heap_al, if_pos rfl]

/-- a slice's three parts -/
abbrev SV := Option Addr × Nat × Nat
def sv (x : SV) : Value := .slice x.1 x.2.1 x.2.2
theorem In.fd {w : World} {v : Value} {l : List Fd} (h : In EFd w v l) (k : Nat) (hk : k < l.length) : ∃ B off cap, v = .slice (some ⟨B, off, none⟩) l.length cap ∧ ∀ W, Below w.heap.size w W → W.cell? ⟨B, off + k * 3, none⟩ = some (.string l[k].n) ∧ W.cell? ⟨B, off + k * 3 + 1, none⟩ = some (.string l[k].v) ∧ W.cell? ⟨B, off + k * 3 + 2, none⟩ = some (.bool l[k].nv) := by
  obtain ⟨B, off, cap, e, hB, d⟩ := h.get okFd k hk
  exact ⟨B, off, cap, e, fun W hb => ⟨(hb.cell hB).trans (d 0 _ rfl), (hb.cell hB).trans (d 1 _ rfl), (hb.cell hB).trans (d 2 _ rfl)⟩⟩

theorem ba_eq {a b : ByteArray} (h : a.data.toList = b.data.toList) : a = b := by
  cases a; cases b; simp only at h; congr 1; exact Array.toList_inj.1 h
/-- the values of a name -/
def vsL (l : List Fd) (s : ByteArray) : List ByteArray := l.filterMap fun f => if f.n = s then some f.v else none
theorem slice_len {α : Type} {E : El α} {w : World} {b : Option Addr} {n c : Nat} {l : List α} (h : In E w (.slice b n c) l) : n = l.length ∧ l.length ≤ c ∧ c ≤ 9223372036854775807 := by
  obtain ⟨_, _, e, q1, q2⟩ := h.slice
  injection e with _ e1 e2
  subst e2
  exact ⟨e1, q1, q2⟩
set_option maxHeartbeats 4000000 in
theorem In.take {α : Type} {E : El α} {w : World} {B off n cap : Nat} {l : List α} (h : In E w (.slice (some ⟨B, off, none⟩) n cap) l) (k : Nat) (hk : k ≤ l.length) : In E w (.slice (some ⟨B, off, none⟩) k cap) (l.take k) := by
  rcases h with ⟨h, _⟩ | ⟨a, cap', e, h1, h2, h3⟩
  · cases h
  · injection e with e1 e2 e3
    injection e1 with e1
    subst e1
    subst e3
    refine .inr ⟨_, cap, by rw [List.length_take, Nat.min_eq_left hk], by rw [List.length_take]; omega, h2, fun j u hu => h3 j u ?_⟩
    have e : E.cs l = E.cs (l.take k) ++ E.cs (l.drop k) := by rw [← El.cs_append, List.take_append_drop]
    rw [e, List.getElem?_append_left (List.getElem?_eq_some_iff.1 hu).1]
    exact hu
theorem In.drop {α : Type} {E : El α} (ok : E.Ok) {w : World} {B off n cap : Nat} {l : List α} (h : In E w (.slice (some ⟨B, off, none⟩) n cap) l) (k : Nat) (hk : k ≤ l.length) :
    (cap ≠ k → In E w (.slice (some ⟨B, off + k * E.sz, none⟩) (l.length - k) (cap - k)) (l.drop k)) ∧ (cap = k → In E w (.slice (some ⟨B, off, none⟩) (l.length - k) (cap - k)) (l.drop k)) := by
  rcases h with ⟨h, _⟩ | ⟨a, cap', e, h1, h2, h3⟩
  · cases h
  · injection e with e1 e2 e3
    injection e1 with e1
    subst e1
    subst e3
    refine ⟨fun hc => .inr ⟨_, cap - k, by rw [List.length_drop], by rw [List.length_drop]; omega, by omega, fun j u hu => ?_⟩, fun hc => .inr ⟨_, cap - k, by rw [List.length_drop], by rw [List.length_drop]; omega, by omega, fun j u hu => ?_⟩⟩
    · have e : E.cs l = E.cs (l.take k) ++ E.cs (l.drop k) := by rw [← El.cs_append, List.take_append_drop]
      have hl : (E.cs (l.take k)).length = k * E.sz := by rw [ok.length, List.length_take, Nat.min_eq_left hk]
      have := h3 (k * E.sz + j) u (by rw [e, List.getElem?_append_right (by omega), hl, Nat.add_sub_cancel_left]; exact hu)
      rw [Addr.add_lit] at this ⊢
      rw [← Nat.add_assoc] at this
      exact this
    · have : l.drop k = [] := List.drop_of_length_le (by omega)
      rw [this] at hu
      simp [El.cs] at hu

theorem vsL_succ (l : List Fd) (s : ByteArray) (k : Nat) (h : k < l.length) : vsL (l.take (k + 1)) s = vsL (l.take k) s ++ (if l[k].n = s then [l[k].v] else []) := by
  unfold vsL
  rw [List.take_succ_eq_append_getElem h, List.filterMap_append]
  congr 1
  by_cases he : l[k].n = s <;> simp [List.filterMap_cons, he]
theorem vsL_le (l : List Fd) (s : ByteArray) : (vsL l s).length ≤ l.length := List.length_filterMap_le _ _
theorem str_eq {a b : ByteArray} (h : a = b) : (a.toList == b.toList) = true := by simp [h]
theorem str_ne {a b : ByteArray} (h : a ≠ b) : (a.toList == b.toList) = false := by
  rw [beq_eq_false_iff_ne]
  intro e
  rw [ByteArray.toList_eq, ByteArray.toList_eq] at e
  exact h (ba_eq e)

/-- a row of one's own, made since w -/
def VsPost (vs : List ByteArray) (w : World) (e : Ending) (w' : World) : Prop :=
  ∃ y : SV, e = .returned (sv y) ∧ Below w.heap.size w w' ∧ R ES w' (sv y) vs ∧ ∀ k, (sv y).ownBlock = some k → w.heap.size ≤ k
set_option maxHeartbeats 8000000 in
set_option maxRecDepth 100000 in
theorem rvalues_any (s : SV) (l : List Fd) (name : ByteArray) (w : World) (hI : In EFd w (sv s) l) (hlen : l.length * 40 ≤ 140737488355328) :
    Calls Tryd.prog 93 #[sv s, .string name] w fun e w' => VsPost (vsL l name) w e w' := by
  have HI : Hid (In EFd w (sv s) l) := hI
  obtain ⟨sb, sl, sc⟩ := s
  have es : sl = l.length := by obtain ⟨_, _, e, _⟩ := hI.slice; simp only [sv] at e; injection e
  have hcap : l.length ≤ sc ∧ sc ≤ 9223372036854775807 := by obtain ⟨_, _, e, q1, q2⟩ := hI.slice; simp only [sv] at e; injection e with _ _ e; subst e; exact ⟨q1, q2⟩
  subst es
  simp only [sv] at HI ⊢
  obtain ⟨hcap1, hcap2⟩ := hcap
  clear hI
  go_enter Tryd.func93, Tryd.ntmps93
  go_wp2_with fail
  go_loopw [5, 6] (fun vv kv wr => ∃ (k : Nat) (vb : Option Addr) (vn vc : Nat), kv = .int .i64 (k : Int) ∧ k ≤ l.length ∧ vv = .slice vb vn vc ∧ Hid (R ES wr (.slice vb vn vc) (vsL (l.take k) name) ∧ (∀ i, (Value.slice vb vn vc).ownBlock = some i → w.heap.size ≤ i) ∧ vn = (vsL (l.take k) name).length ∧ Below w.heap.size w wr)) (fun _ kv _ => l.length - (intOf kv).toNat)
  case atStart => exact ⟨0, none, 0, 0, rfl, by omega, rfl, by simp [vsL]; exact R.nil _ _, fun i hi => by simp [Value.ownBlock] at hi, by simp [vsL], Below.refl _ _⟩
  case round =>
    obtain ⟨k, vb, vn, vc, rfl, hk, rfl, hv⟩ := hrel
    by_cases hlt : k < l.length
    · obtain ⟨Bk, off, cap, e, hc⟩ := HI.out.fd k hlt
      injection e with e1 e2 e3
      subst e1
      clear e2 e3
      obtain ⟨c0, c1, c2⟩ := hc wr hv.out.2.2.2
      have hlt' : (k : Int) < (l.length : Int) := by omega
      by_cases hn : l[k].n = name
      · have hvs : Hid (vsL (l.take (k + 1)) name = vsL (l.take k) name ++ [l[k].v]) := by show _ = _; rw [vsL_succ l name k hlt, if_pos hn]
        have hb : (l[k].n.toList == name.toList) = true := str_eq hn
        clear hn
        obtain ⟨x, hx⟩ : ∃ x, l[k] = x := ⟨_, rfl⟩
        rw [hx] at c0 c1 c2 hb hvs
        obtain ⟨r1, r2, r3, r4⟩ := hv.out
        have hin : In ES (wr.alloc (.cells #[.string x.v] 9)) (.slice (some ⟨wr.heap.size, 0, none⟩) 1 1) [x.v] := in_one _ _ _ #[.string x.v] 9 (0, 0) (by rw [heap_al, if_pos rfl]) rfl
        have hle : (vsL (l.take k) name).length ≤ l.length := Nat.le_trans (vsL_le _ _) (by simp; omega)
        obtain ⟨ab, ac, w5, g1, g2, g3⟩ := app okS (wr.alloc (.cells #[.string x.v] 9)) (.slice vb vn vc) _ (r1.below (bel1 wr _)) _ _ hin (by simp only [ES, List.length_singleton]; omega)
        rw [← r3] at g1 g2 g3
        simp only [List.length_singleton] at g1 g2 g3
        have hbl : Below w.heap.size w (wr.alloc (.cells #[.string x.v] 9)) := r4.trans ((bel1 wr _).mono r4.size)
        have HNX : Hid (R ES w5 (.slice ab (vn + 1) ac) (vsL (l.take (k + 1)) name) ∧ (∀ i, (Value.slice ab (vn + 1) ac).ownBlock = some i → w.heap.size ≤ i) ∧ vn + 1 = (vsL (l.take (k + 1)) name).length ∧ Below w.heap.size w w5) := by
          rw [hvs.out]
          refine ⟨g2, fun i hi => ?_, by rw [List.length_append, r3]; rfl, hbl.trans (g3.belowB hbl.size r2)⟩
          rcases g3.own i hi with e | e
          · exact r2 i e
          · exact Nat.le_trans hbl.size e
        replace g1 : Hid _ := g1
        clear hx hc r1 r2 r3 r4 hv g2 g3 hin hbl hle hvs
        go_wp2_with (at_builtin; refine Lib.wpList_append_run _ rfl _ _ _ _ rfl _ _ rfl rfl _ _ g1.out ?_)
        go_roundw
        case rel => exact ⟨k + 1, ab, vn + 1, ac, by simp, by omega, rfl, HNX.out⟩
        case measure => simp [intOf]; omega
      · have hvs : Hid (vsL (l.take (k + 1)) name = vsL (l.take k) name) := by show _ = _; rw [vsL_succ l name k hlt, if_neg hn, List.append_nil]
        have hb : (l[k].n.toList == name.toList) = false := str_ne hn
        clear hn
        obtain ⟨x, hx⟩ : ∃ x, l[k] = x := ⟨_, rfl⟩
        rw [hx] at c0 c1 c2 hb
        clear hx hc
        go_wp2_with fail
        go_roundw
        case rel => exact ⟨k + 1, vb, vn, vc, by simp, by omega, rfl, by rw [hvs.out]; exact hv.out⟩
        case measure => simp [intOf]; omega
    · obtain rfl : k = l.length := by omega
      have hlt' : ¬ (l.length : Int) < (l.length : Int) := by omega
      have hvv : Hid (R ES wr (.slice vb vn vc) (vsL l name) ∧ (∀ i, (Value.slice vb vn vc).ownBlock = some i → w.heap.size ≤ i) ∧ Below w.heap.size w wr) := by
        obtain ⟨r1, r2, r3, r4⟩ := hv.out
        rw [List.take_length] at r1
        exact ⟨r1, r2, r4⟩
      clear hv
      go_wp2_with fail
      go_ret
      exact ⟨(vb, vn, vc), rfl, hvv.out.2.2, hvv.out.1, hvv.out.2.1⟩
set_option maxHeartbeats 8000000 in
set_option maxRecDepth 100000 in
theorem values_any (s : SV) (l : List Fd) (name : ByteArray) (w : World) (hI : In EFd w (sv s) l) (hlen : l.length * 40 ≤ 140737488355328) :
    Calls Tryd.prog 28 #[sv s, .string name] w fun e w' => VsPost (vsL l name) w e w' := by
  have HI : Hid (In EFd w (sv s) l) := hI
  obtain ⟨sb, sl, sc⟩ := s
  have es : sl = l.length := by obtain ⟨_, _, e, _⟩ := hI.slice; simp only [sv] at e; injection e
  have hcap : l.length ≤ sc ∧ sc ≤ 9223372036854775807 := by obtain ⟨_, _, e, q1, q2⟩ := hI.slice; simp only [sv] at e; injection e with _ _ e; subst e; exact ⟨q1, q2⟩
  subst es
  simp only [sv] at HI ⊢
  obtain ⟨hcap1, hcap2⟩ := hcap
  clear hI
  go_enter Tryd.func28, Tryd.ntmps28
  go_wp2_with fail
  go_loopw [5, 7, 10] (fun vv _ kv wr => ∃ (k : Nat) (vb : Option Addr) (vn vc : Nat), kv = .int .i64 (k : Int) ∧ k ≤ l.length ∧ vv = .slice vb vn vc ∧ Hid (R ES wr (.slice vb vn vc) (vsL (l.take k) name) ∧ (∀ i, (Value.slice vb vn vc).ownBlock = some i → w.heap.size ≤ i) ∧ vn = (vsL (l.take k) name).length ∧ Below w.heap.size w wr)) (fun _ _ kv _ => l.length - (intOf kv).toNat)
  case atStart => exact ⟨0, none, 0, 0, rfl, by omega, rfl, by simp [vsL]; exact R.nil _ _, fun i hi => by simp [Value.ownBlock] at hi, by simp [vsL], Below.refl _ _⟩
  case round =>
    obtain ⟨k, vb, vn, vc, rfl, hk, rfl, hv⟩ := hrel
    by_cases hlt : k < l.length
    · obtain ⟨Bk, off, cap, e, hc⟩ := HI.out.fd k hlt
      injection e with e1 e2 e3
      subst e1
      clear e2 e3
      obtain ⟨c0, c1, c2⟩ := hc wr hv.out.2.2.2
      have hlt' : (k : Int) < (l.length : Int) := by omega
      by_cases hn : l[k].n = name
      · have hvs : Hid (vsL (l.take (k + 1)) name = vsL (l.take k) name ++ [l[k].v]) := by show _ = _; rw [vsL_succ l name k hlt, if_pos hn]
        have hb : (l[k].n.toList == name.toList) = true := str_eq hn
        clear hn
        obtain ⟨x, hx⟩ : ∃ x, l[k] = x := ⟨_, rfl⟩
        rw [hx] at c0 c1 c2 hb hvs
        obtain ⟨r1, r2, r3, r4⟩ := hv.out
        have hin : In ES ((wr.alloc (.cells #[.string x.n, .string x.v, .bool x.nv] 51)).alloc (.cells #[.string x.v] 9)) (.slice (some ⟨wr.heap.size + 1, 0, none⟩) 1 1) [x.v] := in_one _ _ _ #[.string x.v] 9 (0, 0) (fresh2 _ _ _) rfl
        have hle : (vsL (l.take k) name).length ≤ l.length := Nat.le_trans (vsL_le _ _) (by simp; omega)
        have hb2 := bel2 wr (.cells #[.string x.n, .string x.v, .bool x.nv] 51) (.cells #[.string x.v] 9)
        obtain ⟨ab, ac, w5, g1, g2, g3⟩ := app okS ((wr.alloc (.cells #[.string x.n, .string x.v, .bool x.nv] 51)).alloc (.cells #[.string x.v] 9)) (.slice vb vn vc) _ (r1.below hb2) _ _ hin (by simp only [ES, List.length_singleton]; omega)
        rw [← r3] at g1 g2 g3
        simp only [List.length_singleton] at g1 g2 g3
        have hbl : Below w.heap.size w ((wr.alloc (.cells #[.string x.n, .string x.v, .bool x.nv] 51)).alloc (.cells #[.string x.v] 9)) := r4.trans (hb2.mono r4.size)
        have HNX : Hid (R ES w5 (.slice ab (vn + 1) ac) (vsL (l.take (k + 1)) name) ∧ (∀ i, (Value.slice ab (vn + 1) ac).ownBlock = some i → w.heap.size ≤ i) ∧ vn + 1 = (vsL (l.take (k + 1)) name).length ∧ Below w.heap.size w w5) := by
          rw [hvs.out]
          refine ⟨g2, fun i hi => ?_, by rw [List.length_append, r3]; rfl, hbl.trans (g3.belowB hbl.size r2)⟩
          rcases g3.own i hi with e | e
          · exact r2 i e
          · exact Nat.le_trans hbl.size e
        replace g1 : Hid _ := g1
        clear hx hc r1 r2 r3 r4 hv g2 g3 hin hbl hle hvs hb2
        go_wp2_with (at_builtin; refine Lib.wpList_append_run _ rfl _ _ _ _ rfl _ _ rfl rfl _ _ g1.out ?_)
        go_roundw
        case rel => exact ⟨k + 1, ab, vn + 1, ac, by simp, by omega, rfl, HNX.out⟩
        case measure => simp [intOf]; omega
      · have hvs : Hid (vsL (l.take (k + 1)) name = vsL (l.take k) name) := by show _ = _; rw [vsL_succ l name k hlt, if_neg hn, List.append_nil]
        have hb : (l[k].n.toList == name.toList) = false := str_ne hn
        clear hn
        obtain ⟨x, hx⟩ : ∃ x, l[k] = x := ⟨_, rfl⟩
        rw [hx] at c0 c1 c2 hb
        have HNX : Hid (R ES (wr.alloc (.cells #[.string x.n, .string x.v, .bool x.nv] 51)) (.slice vb vn vc) (vsL (l.take k) name) ∧ (∀ i, (Value.slice vb vn vc).ownBlock = some i → w.heap.size ≤ i) ∧ vn = (vsL (l.take k) name).length ∧ Below w.heap.size w (wr.alloc (.cells #[.string x.n, .string x.v, .bool x.nv] 51))) := by
          obtain ⟨r1, r2, r3, r4⟩ := hv.out
          exact ⟨r1.below (bel1 wr _), r2, r3, r4.trans ((bel1 wr _).mono r4.size)⟩
        clear hx hc hv
        go_wp2_with fail
        go_roundw
        case rel => exact ⟨k + 1, vb, vn, vc, by simp, by omega, rfl, by rw [hvs.out]; exact HNX.out⟩
        case measure => simp [intOf]; omega
    · obtain rfl : k = l.length := by omega
      have hlt' : ¬ (l.length : Int) < (l.length : Int) := by omega
      have hvv : Hid (R ES wr (.slice vb vn vc) (vsL l name) ∧ (∀ i, (Value.slice vb vn vc).ownBlock = some i → w.heap.size ≤ i) ∧ Below w.heap.size w wr) := by
        obtain ⟨r1, r2, r3, r4⟩ := hv.out
        rw [List.take_length] at r1
        exact ⟨r1, r2, r4⟩
      clear hv
      go_wp2_with fail
      go_ret
      exact ⟨(vb, vn, vc), rfl, hvv.out.2.2, hvv.out.1, hvv.out.2.1⟩

end Go.Proofs.YtfponcdhaefkdaaDoor
