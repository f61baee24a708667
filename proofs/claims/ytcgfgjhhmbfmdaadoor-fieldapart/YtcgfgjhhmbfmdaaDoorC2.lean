/- Values, one, plain, status. -/
import Derived.Test.YtcgfgjhhmbfmdaaDoorD0
import Derived.Test.YtcgfgjhhmbfmdaaDoorM2
namespace Go.Proofs.YtcgfgjhhmbfmdaaDoor
open Go.RowKit
set_option linter.unusedVariables false
set_option linter.unusedSimpArgs false

theorem vsL_succ (l : List Fd) (s : ByteArray) (k : Nat) (h : k < l.length) : vsL (l.take (k + 1)) s = vsL (l.take k) s ++ (if l[k].n = s then [l[k].v] else []) := by
  unfold vsL
  rw [List.take_succ_eq_append_getElem h, List.filterMap_append]
  congr 1
  by_cases he : l[k].n = s <;> simp [List.filterMap_cons, he]
theorem vsL_le (l : List Fd) (s : ByteArray) : (vsL l s).length ≤ l.length := List.length_filterMap_le _ _
theorem str_eq {a b : ByteArray} (h : a = b) : (a.toList == b.toList) = true := by simp [h]
theorem str_ne {a b : ByteArray} (h : a ≠ b) : (a.toList == b.toList) = false := by
  rw [beq_eq_false_iff_ne]
  intro e
  rw [ByteArray.toList_eq, ByteArray.toList_eq] at e
  exact h (ba_eq e)

/-- a row of one's own, made since w -/
def VsPost (vs : List ByteArray) (w : World) (e : Ending) (w' : World) : Prop :=
  ∃ y : SV, e = .returned (sv y) ∧ Below w.heap.size w w' ∧ R ES w' (sv y) vs ∧ ∀ k, (sv y).ownBlock = some k → w.heap.size ≤ k
set_option maxHeartbeats 8000000 in
set_option maxRecDepth 100000 in
theorem rvalues_any (s : SV) (l : List Fd) (name : ByteArray) (w : World) (hI : In EFd w (sv s) l) (hlen : l.length * 40 ≤ 140737488355328) :
    Calls Tryd.prog 33 #[sv s, .string name] w fun e w' => VsPost (vsL l name) w e w' := by
  have HI : Hid (In EFd w (sv s) l) := hI
  obtain ⟨sb, sl, sc⟩ := s
  have es : sl = l.length := by obtain ⟨_, _, e, _⟩ := hI.slice; simp only [sv] at e; injection e
  have hcap : l.length ≤ sc ∧ sc ≤ 9223372036854775807 := by obtain ⟨_, _, e, q1, q2⟩ := hI.slice; simp only [sv] at e; injection e with _ _ e; subst e; exact ⟨q1, q2⟩
  subst es
  simp only [sv] at HI ⊢
  obtain ⟨hcap1, hcap2⟩ := hcap
  clear hI
  go_enter Tryd.func33, Tryd.ntmps33
  go_wp2_with fail
  go_loopw [5, 6] (fun vv kv wr => ∃ (k : Nat) (vb : Option Addr) (vn vc : Nat), kv = .int .i64 (k : Int) ∧ k ≤ l.length ∧ vv = .slice vb vn vc ∧ Hid (R ES wr (.slice vb vn vc) (vsL (l.take k) name) ∧ (∀ i, (Value.slice vb vn vc).ownBlock = some i → w.heap.size ≤ i) ∧ vn = (vsL (l.take k) name).length ∧ Below w.heap.size w wr)) (fun _ kv _ => l.length - (intOf kv).toNat)
  case atStart => exact ⟨0, none, 0, 0, rfl, by omega, rfl, by simp [vsL]; exact R.nil _ _, fun i hi => by simp [Value.ownBlock] at hi, by simp [vsL], Below.refl _ _⟩
  case round =>
    obtain ⟨k, vb, vn, vc, rfl, hk, rfl, hv⟩ := hrel
    by_cases hlt : k < l.length
    · obtain ⟨Bk, off, cap, e, hc⟩ := HI.out.fd k hlt
      injection e with e1 e2 e3
      subst e1
      clear e2 e3
      obtain ⟨c0, c1, c2⟩ := hc wr hv.out.2.2.2
      have hlt' : (k : Int) < (l.length : Int) := by omega
      by_cases hn : l[k].n = name
      · have hvs : Hid (vsL (l.take (k + 1)) name = vsL (l.take k) name ++ [l[k].v]) := by show _ = _; rw [vsL_succ l name k hlt, if_pos hn]
        have hb : (l[k].n.toList == name.toList) = true := str_eq hn
        clear hn
        obtain ⟨x, hx⟩ : ∃ x, l[k] = x := ⟨_, rfl⟩
        rw [hx] at c0 c1 c2 hb hvs
        obtain ⟨r1, r2, r3, r4⟩ := hv.out
        have hin : In ES (wr.alloc (.cells #[.string x.v] 9)) (.slice (some ⟨wr.heap.size, 0, none⟩) 1 1) [x.v] := in_one _ _ _ #[.string x.v] 9 (0, 0) (by rw [heap_al, if_pos rfl]) rfl
        have hle : (vsL (l.take k) name).length ≤ l.length := Nat.le_trans (vsL_le _ _) (by simp; omega)
        obtain ⟨ab, ac, w5, g1, g2, g3⟩ := app okS (wr.alloc (.cells #[.string x.v] 9)) (.slice vb vn vc) _ (r1.below (bel1 wr _)) _ _ hin (by simp only [ES, List.length_singleton]; omega)
        rw [← r3] at g1 g2 g3
        simp only [List.length_singleton] at g1 g2 g3
        have hbl : Below w.heap.size w (wr.alloc (.cells #[.string x.v] 9)) := r4.trans ((bel1 wr _).mono r4.size)
        have HNX : Hid (R ES w5 (.slice ab (vn + 1) ac) (vsL (l.take (k + 1)) name) ∧ (∀ i, (Value.slice ab (vn + 1) ac).ownBlock = some i → w.heap.size ≤ i) ∧ vn + 1 = (vsL (l.take (k + 1)) name).length ∧ Below w.heap.size w w5) := by
          rw [hvs.out]
          refine ⟨g2, fun i hi => ?_, by rw [List.length_append, r3]; rfl, hbl.trans (g3.belowB hbl.size r2)⟩
          rcases g3.own i hi with e | e
          · exact r2 i e
          · exact Nat.le_trans hbl.size e
        replace g1 : Hid _ := g1
        clear hx hc r1 r2 r3 r4 hv g2 g3 hin hbl hle hvs
        go_wp2_with (at_builtin; refine Lib.wpList_append_run _ rfl _ _ _ _ rfl _ _ rfl rfl _ _ g1.out ?_)
        go_roundw
        case rel => exact ⟨k + 1, ab, vn + 1, ac, by simp, by omega, rfl, HNX.out⟩
        case measure => simp [intOf]; omega
      · have hvs : Hid (vsL (l.take (k + 1)) name = vsL (l.take k) name) := by show _ = _; rw [vsL_succ l name k hlt, if_neg hn, List.append_nil]
        have hb : (l[k].n.toList == name.toList) = false := str_ne hn
        clear hn
        obtain ⟨x, hx⟩ : ∃ x, l[k] = x := ⟨_, rfl⟩
        rw [hx] at c0 c1 c2 hb
        clear hx hc
        go_wp2_with fail
        go_roundw
        case rel => exact ⟨k + 1, vb, vn, vc, by simp, by omega, rfl, by rw [hvs.out]; exact hv.out⟩
        case measure => simp [intOf]; omega
    · obtain rfl : k = l.length := by omega
      have hlt' : ¬ (l.length : Int) < (l.length : Int) := by omega
      have hvv : Hid (R ES wr (.slice vb vn vc) (vsL l name) ∧ (∀ i, (Value.slice vb vn vc).ownBlock = some i → w.heap.size ≤ i) ∧ Below w.heap.size w wr) := by
        obtain ⟨r1, r2, r3, r4⟩ := hv.out
        rw [List.take_length] at r1
        exact ⟨r1, r2, r4⟩
      clear hv
      go_wp2_with fail
      go_ret
      exact ⟨(vb, vn, vc), rfl, hvv.out.2.2, hvv.out.1, hvv.out.2.1⟩
set_option maxHeartbeats 8000000 in
set_option maxRecDepth 100000 in
theorem values_any (s : SV) (l : List Fd) (name : ByteArray) (w : World) (hI : In EFd w (sv s) l) (hlen : l.length * 40 ≤ 140737488355328) :
    Calls Tryd.prog 25 #[sv s, .string name] w fun e w' => VsPost (vsL l name) w e w' := by
  have HI : Hid (In EFd w (sv s) l) := hI
  obtain ⟨sb, sl, sc⟩ := s
  have es : sl = l.length := by obtain ⟨_, _, e, _⟩ := hI.slice; simp only [sv] at e; injection e
  have hcap : l.length ≤ sc ∧ sc ≤ 9223372036854775807 := by obtain ⟨_, _, e, q1, q2⟩ := hI.slice; simp only [sv] at e; injection e with _ _ e; subst e; exact ⟨q1, q2⟩
  subst es
  simp only [sv] at HI ⊢
  obtain ⟨hcap1, hcap2⟩ := hcap
  clear hI
  go_enter Tryd.func25, Tryd.ntmps25
  go_wp2_with fail
  go_loopw [5, 7, 10] (fun vv _ kv wr => ∃ (k : Nat) (vb : Option Addr) (vn vc : Nat), kv = .int .i64 (k : Int) ∧ k ≤ l.length ∧ vv = .slice vb vn vc ∧ Hid (R ES wr (.slice vb vn vc) (vsL (l.take k) name) ∧ (∀ i, (Value.slice vb vn vc).ownBlock = some i → w.heap.size ≤ i) ∧ vn = (vsL (l.take k) name).length ∧ Below w.heap.size w wr)) (fun _ _ kv _ => l.length - (intOf kv).toNat)
  case atStart => exact ⟨0, none, 0, 0, rfl, by omega, rfl, by simp [vsL]; exact R.nil _ _, fun i hi => by simp [Value.ownBlock] at hi, by simp [vsL], Below.refl _ _⟩
  case round =>
    obtain ⟨k, vb, vn, vc, rfl, hk, rfl, hv⟩ := hrel
    by_cases hlt : k < l.length
    · obtain ⟨Bk, off, cap, e, hc⟩ := HI.out.fd k hlt
      injection e with e1 e2 e3
      subst e1
      clear e2 e3
      obtain ⟨c0, c1, c2⟩ := hc wr hv.out.2.2.2
      have hlt' : (k : Int) < (l.length : Int) := by omega
      by_cases hn : l[k].n = name
      · have hvs : Hid (vsL (l.take (k + 1)) name = vsL (l.take k) name ++ [l[k].v]) := by show _ = _; rw [vsL_succ l name k hlt, if_pos hn]
        have hb : (l[k].n.toList == name.toList) = true := str_eq hn
        clear hn
        obtain ⟨x, hx⟩ : ∃ x, l[k] = x := ⟨_, rfl⟩
        rw [hx] at c0 c1 c2 hb hvs
        obtain ⟨r1, r2, r3, r4⟩ := hv.out
        have hin : In ES ((wr.alloc (.cells #[.string x.n, .string x.v, .bool x.nv] 34)).alloc (.cells #[.string x.v] 9)) (.slice (some ⟨wr.heap.size + 1, 0, none⟩) 1 1) [x.v] := in_one _ _ _ #[.string x.v] 9 (0, 0) (fresh2 _ _ _) rfl
        have hle : (vsL (l.take k) name).length ≤ l.length := Nat.le_trans (vsL_le _ _) (by simp; omega)
        have hb2 := bel2 wr (.cells #[.string x.n, .string x.v, .bool x.nv] 34) (.cells #[.string x.v] 9)
        obtain ⟨ab, ac, w5, g1, g2, g3⟩ := app okS ((wr.alloc (.cells #[.string x.n, .string x.v, .bool x.nv] 34)).alloc (.cells #[.string x.v] 9)) (.slice vb vn vc) _ (r1.below hb2) _ _ hin (by simp only [ES, List.length_singleton]; omega)
        rw [← r3] at g1 g2 g3
        simp only [List.length_singleton] at g1 g2 g3
        have hbl : Below w.heap.size w ((wr.alloc (.cells #[.string x.n, .string x.v, .bool x.nv] 34)).alloc (.cells #[.string x.v] 9)) := r4.trans (hb2.mono r4.size)
        have HNX : Hid (R ES w5 (.slice ab (vn + 1) ac) (vsL (l.take (k + 1)) name) ∧ (∀ i, (Value.slice ab (vn + 1) ac).ownBlock = some i → w.heap.size ≤ i) ∧ vn + 1 = (vsL (l.take (k + 1)) name).length ∧ Below w.heap.size w w5) := by
          rw [hvs.out]
          refine ⟨g2, fun i hi => ?_, by rw [List.length_append, r3]; rfl, hbl.trans (g3.belowB hbl.size r2)⟩
          rcases g3.own i hi with e | e
          · exact r2 i e
          · exact Nat.le_trans hbl.size e
        replace g1 : Hid _ := g1
        clear hx hc r1 r2 r3 r4 hv g2 g3 hin hbl hle hvs hb2
        go_wp2_with (at_builtin; refine Lib.wpList_append_run _ rfl _ _ _ _ rfl _ _ rfl rfl _ _ g1.out ?_)
        go_roundw
        case rel => exact ⟨k + 1, ab, vn + 1, ac, by simp, by omega, rfl, HNX.out⟩
        case measure => simp [intOf]; omega
      · have hvs : Hid (vsL (l.take (k + 1)) name = vsL (l.take k) name) := by show _ = _; rw [vsL_succ l name k hlt, if_neg hn, List.append_nil]
        have hb : (l[k].n.toList == name.toList) = false := str_ne hn
        clear hn
        obtain ⟨x, hx⟩ : ∃ x, l[k] = x := ⟨_, rfl⟩
        rw [hx] at c0 c1 c2 hb
        have HNX : Hid (R ES (wr.alloc (.cells #[.string x.n, .string x.v, .bool x.nv] 34)) (.slice vb vn vc) (vsL (l.take k) name) ∧ (∀ i, (Value.slice vb vn vc).ownBlock = some i → w.heap.size ≤ i) ∧ vn = (vsL (l.take k) name).length ∧ Below w.heap.size w (wr.alloc (.cells #[.string x.n, .string x.v, .bool x.nv] 34))) := by
          obtain ⟨r1, r2, r3, r4⟩ := hv.out
          exact ⟨r1.below (bel1 wr _), r2, r3, r4.trans ((bel1 wr _).mono r4.size)⟩
        clear hx hc hv
        go_wp2_with fail
        go_roundw
        case rel => exact ⟨k + 1, vb, vn, vc, by simp, by omega, rfl, by rw [hvs.out]; exact HNX.out⟩
        case measure => simp [intOf]; omega
    · obtain rfl : k = l.length := by omega
      have hlt' : ¬ (l.length : Int) < (l.length : Int) := by omega
      have hvv : Hid (R ES wr (.slice vb vn vc) (vsL l name) ∧ (∀ i, (Value.slice vb vn vc).ownBlock = some i → w.heap.size ≤ i) ∧ Below w.heap.size w wr) := by
        obtain ⟨r1, r2, r3, r4⟩ := hv.out
        rw [List.take_length] at r1
        exact ⟨r1, r2, r4⟩
      clear hv
      go_wp2_with fail
      go_ret
      exact ⟨(vb, vn, vc), rfl, hvv.out.2.2, hvv.out.1, hvv.out.2.1⟩

set_option maxHeartbeats 4000000 in
set_option maxRecDepth 100000 in
theorem rone_any (s : SV) (l : List Fd) (name : ByteArray) (w : World) (hI : In EFd w (sv s) l) (hlen : l.length * 40 ≤ 140737488355328) :
    Calls Tryd.prog 54 #[sv s, .string name] w fun e w' => e = .returned (.tuple #[.string ((oneO l name).getD ⟨#[]⟩), .bool (oneO l name).isSome]) ∧ Below w.heap.size w w' := by
  have hC : Hid (Calls Tryd.prog 33 #[sv s, .string name] w fun e w' => VsPost (vsL l name) w e w') := rvalues_any s l name w hI hlen
  obtain ⟨sb, sl, sc⟩ := s
  simp only [sv] at hC ⊢
  clear hI hlen
  go_enter Tryd.func54, Tryd.ntmps54
  go_wp2_with fail
  go_at_call 33
  refine hC.out.mono ?_
  rintro e w1 ⟨⟨vb, vl, vc⟩, rfl, hb, hr, _⟩
  replace hb : Hid (Below w.heap.size w w1) := hb
  have hl : vl = (vsL l name).length := by obtain ⟨_, _, e, _⟩ := hr.slice; simp only [sv] at e; injection e
  by_cases h1 : (vsL l name).length = 1
  · obtain ⟨v, hv⟩ : ∃ v, vsL l name = [v] := by
      match h : vsL l name, h1 with
      | [v], _ => exact ⟨v, rfl⟩
    have ho : oneO l name = some v := oneO_some.2 hv
    rw [h1] at hl
    subst hl
    obtain ⟨Bk, off, cap, e, _, hc⟩ := hr.isIn.get okS 0 (by rw [h1]; omega)
    simp only [sv] at e ⊢
    injection e with e1 e2 e3
    subst e1
    have c0 : w1.cell? ⟨Bk, off, none⟩ = some (.string v) := by
      have := hc 0 (.string v) (by simp [ES, hv])
      simpa [ES] using this
    have HO : Hid (oneO l name = some v) := ho
    have HV : Hid (vc = cap) := e3
    clear hr h1 hv ho hc hC e3 e2
    go_wp2_with fail
    go_ret2
    exact ⟨by rw [HO.out]; rfl, hb.out⟩
  · have ho : oneO l name = none := by
      cases e : oneO l name with
      | none => rfl
      | some v => exact absurd (by rw [oneO_some.1 e]; rfl) h1
    have HO : Hid (oneO l name = none) := ho
    have h1' : ((vl : Int) != 1) = true := by simp; omega
    simp only [sv]
    clear hr h1 ho hC hl
    go_wp2_with fail
    go_ret2
    exact ⟨by rw [HO.out]; rfl, hb.out⟩

/-- plain -/
def FdPost (fs : List Fd) (w : World) (e : Ending) (w' : World) : Prop :=
  ∃ y : SV, e = .returned (sv y) ∧ Below w.heap.size w w' ∧ R EFd w' (sv y) fs ∧ ∀ k, (sv y).ownBlock = some k → w.heap.size ≤ k
theorem drop_take_succ (l : List Fd) (n k : Nat) (hn : n ≤ k) (h : k < l.length) : (l.take (k + 1)).drop n = (l.take k).drop n ++ [l[k]] := by
  rw [List.take_succ_eq_append_getElem h, List.drop_append_of_le_length (by simp; omega)]
set_option maxHeartbeats 8000000 in
set_option maxRecDepth 100000 in
theorem rplain_any (s : SV) (l : List Fd) (n : Nat) (w : World) (hI : In EFd w (sv s) l) (hn : n ≤ l.length) (hlen : l.length * 40 ≤ 140737488355328) :
    Calls Tryd.prog 59 #[sv s, .int .i64 (n : Int)] w fun e w' => FdPost (l.drop n) w e w' := by
  have HI : Hid (In EFd w (sv s) l) := hI
  obtain ⟨sb, sl, sc⟩ := s
  have es : sl = l.length := by obtain ⟨_, _, e, _⟩ := hI.slice; simp only [sv] at e; injection e
  have hcap : l.length ≤ sc ∧ sc ≤ 9223372036854775807 := by obtain ⟨_, _, e, q1, q2⟩ := hI.slice; simp only [sv] at e; injection e with _ _ e; subst e; exact ⟨q1, q2⟩
  subst es
  simp only [sv] at HI ⊢
  obtain ⟨hcap1, hcap2⟩ := hcap
  clear hI
  go_enter Tryd.func59, Tryd.ntmps59
  go_wp2_with fail
  go_loopw [5, 6] (fun vv kv wr => ∃ (k : Nat) (vb : Option Addr) (vn vc : Nat), kv = .int .i64 (k : Int) ∧ n ≤ k ∧ k ≤ l.length ∧ vv = .slice vb vn vc ∧ Hid (R EFd wr (.slice vb vn vc) ((l.take k).drop n) ∧ (∀ i, (Value.slice vb vn vc).ownBlock = some i → w.heap.size ≤ i) ∧ vn = ((l.take k).drop n).length ∧ Below w.heap.size w wr)) (fun _ kv _ => l.length - (intOf kv).toNat)
  case atStart =>
    have h0 : (l.take n).drop n = [] := by simp
    exact ⟨n, none, 0, 0, rfl, by omega, by omega, rfl, by rw [h0]; exact R.nil _ _, fun i hi => by simp [Value.ownBlock] at hi, by rw [h0]; rfl, Below.refl _ _⟩
  case round =>
    obtain ⟨k, vb, vn, vc, rfl, hnk, hk, rfl, hv⟩ := hrel
    by_cases hlt : k < l.length
    · obtain ⟨Bk, off, cap, e, hc⟩ := HI.out.fd k hlt
      injection e with e1 e2 e3
      subst e1
      clear e2 e3
      obtain ⟨c0, c1, c2⟩ := hc wr hv.out.2.2.2
      have hlt' : (k : Int) < (l.length : Int) := by omega
      have hvs : Hid ((l.take (k + 1)).drop n = (l.take k).drop n ++ [l[k]]) := drop_take_succ l n k hnk hlt
      obtain ⟨x, hx⟩ : ∃ x, l[k] = x := ⟨_, rfl⟩
      rw [hx] at c0 c1 c2 hvs
      obtain ⟨r1, r2, r3, r4⟩ := hv.out
      have hin : In EFd (wr.alloc (.cells #[.string x.n, .string x.v, .bool x.nv] 34)) (.slice (some ⟨wr.heap.size, 0, none⟩) 1 1) [x] := in_one _ _ _ #[.string x.n, .string x.v, .bool x.nv] 34 (0, 0) (by rw [heap_al, if_pos rfl]) rfl
      have hle : ((l.take k).drop n).length + 1 ≤ l.length := by simp; omega
      obtain ⟨ab, ac, w5, g1, g2, g3⟩ := app okFd (wr.alloc (.cells #[.string x.n, .string x.v, .bool x.nv] 34)) (.slice vb vn vc) _ (r1.below (bel1 wr _)) _ _ hin (by simp only [EFd, List.length_singleton]; omega)
      rw [← r3] at g1 g2 g3
      simp only [List.length_singleton] at g1 g2 g3
      have hbl : Below w.heap.size w (wr.alloc (.cells #[.string x.n, .string x.v, .bool x.nv] 34)) := r4.trans ((bel1 wr _).mono r4.size)
      have HNX : Hid (R EFd w5 (.slice ab (vn + 1) ac) ((l.take (k + 1)).drop n) ∧ (∀ i, (Value.slice ab (vn + 1) ac).ownBlock = some i → w.heap.size ≤ i) ∧ vn + 1 = ((l.take (k + 1)).drop n).length ∧ Below w.heap.size w w5) := by
        rw [hvs.out]
        refine ⟨g2, fun i hi => ?_, by rw [List.length_append, r3]; rfl, hbl.trans (g3.belowB hbl.size r2)⟩
        rcases g3.own i hi with e | e
        · exact r2 i e
        · exact Nat.le_trans hbl.size e
      replace g1 : Hid _ := g1
      clear hx hc r1 r2 r3 r4 hv g2 g3 hin hbl hle hvs
      go_wp2_with (at_builtin; refine Lib.wpList_append_run _ rfl _ _ _ _ rfl _ _ rfl rfl _ _ g1.out ?_)
      go_roundw
      case rel => exact ⟨k + 1, ab, vn + 1, ac, by simp, by omega, by omega, rfl, HNX.out⟩
      case measure => simp [intOf]; omega
    · obtain rfl : k = l.length := by omega
      have hlt' : ¬ (l.length : Int) < (l.length : Int) := by omega
      have hvv : Hid (R EFd wr (.slice vb vn vc) (l.drop n) ∧ (∀ i, (Value.slice vb vn vc).ownBlock = some i → w.heap.size ≤ i) ∧ Below w.heap.size w wr) := by
        obtain ⟨r1, r2, r3, r4⟩ := hv.out
        rw [List.take_length] at r1
        exact ⟨r1, r2, r4⟩
      clear hv
      go_wp2_with fail
      go_ret
      exact ⟨(vb, vn, vc), rfl, hvv.out.2.2, hvv.out.1, hvv.out.2.1⟩

/-- status -/
theorem three {s : ByteArray} (h : s.size = 3) : ∃ a b c : UInt8, s.data.toList = [a, b, c] := by
  have : s.data.toList.length = 3 := by rw [← Lib.size_eq]; exact h
  match h' : s.data.toList, this with
  | [a, b, c], _ => exact ⟨a, b, c, rfl⟩
theorem st_short {s : ByteArray} (h : s.size ≠ 3) : stN s = 0 := by
  unfold stN
  rw [if_neg]
  intro hs
  unfold stB at hs
  simp only [Bool.and_eq_true, decide_eq_true_eq] at hs
  obtain ⟨h3, hd⟩ := dig_at hs.1.1
  have hpos := consB_size hs.1.1
  have hl : s.data.toList.length = s.size := (Lib.size_eq s).symm
  have hdig : ∀ x ∈ s.data.toList, x.toNat ≤ 57 := fun x hx => by
    obtain ⟨j, hj, e⟩ := List.getElem_of_mem hx
    have hj' : j < s.size := by omega
    have := (hd j hj').2
    rw [← e]
    exact this
  have h12 : s.size = 1 ∨ s.size = 2 := by omega
  rcases h12 with h12 | h12
  · rw [h12] at hl
    match hm : s.data.toList, hl with
    | [a], _ =>
      have := hdig a (by rw [hm]; simp)
      have := hs.1.2
      rw [hm] at this
      simp only [numL, List.foldl_cons, List.foldl_nil] at this
      omega
  · rw [h12] at hl
    match hm : s.data.toList, hl with
    | [a, b], _ =>
      have := hdig a (by rw [hm]; simp)
      have := hdig b (by rw [hm]; simp)
      have := hs.1.2
      rw [hm] at this
      simp only [numL, List.foldl_cons, List.foldl_nil] at this
      omega
set_option maxHeartbeats 4000000 in
set_option maxRecDepth 100000 in
theorem rstatus_any (s : ByteArray) (w : World) (hs : s.size ≤ 140737488355328) : Calls Tryd.prog 60 #[.string s] w fun e w' => e = .returned (.int .i64 (stN s)) ∧ Below w.heap.size w w' := by
  by_cases h3 : s.size = 3
  · have hM : Hid (∀ W, Calls Tryd.prog 40 #[.string s, .int .i64 3, .string digC] W fun e w' => e = .returned (.bool (consB digB 3 s)) ∧ w' = W) := fun W => by
      have := made_any s digC 3 W hs (by decide)
      rw [made_kind dig_bytes] at this
      exact this
    unfold digC at hM
    have h3' : ((s.size : Int) != 3) = false := by simp; omega
    cases hc : consB digB 3 s
    · have h0 : stN s = 0 := by unfold stN stB; rw [hc]; rfl
      rw [h0]
      rw [hc] at hM
      clear hc h3 h0
      go_enter Tryd.func60, Tryd.ntmps60
      go_wp2_with (go_at_call 40; refine (hM.out _).mono ?_; rintro e w' ⟨rfl, hw⟩; rw [hw]; clear hw)
      go_ret
      exact ⟨rfl, Below.refl _ _⟩
    · obtain ⟨_, hd⟩ := dig_at hc
      obtain ⟨a, b, c, hl⟩ := three h3
      have p0 : 0 < s.size := by omega
      have p1 : 1 < s.size := by omega
      have p2 : 2 < s.size := by omega
      have q0 : (0 : Int) < (s.size : Int) := by omega
      have q1 : (1 : Int) < (s.size : Int) := by omega
      have q2 : (2 : Int) < (s.size : Int) := by omega
      have e0 : s[0]'p0 = a := by have := Lib.data_getElem? s 0 p0; rw [hl] at this; simpa using this.symm
      have e1 : s[1]'p1 = b := by have := Lib.data_getElem? s 1 p1; rw [hl] at this; simpa using this.symm
      have e2 : s[2]'p2 = c := by have := Lib.data_getElem? s 2 p2; rw [hl] at this; simpa using this.symm
      have d0 := hd 0 p0
      have d1 := hd 1 p1
      have d2 := hd 2 p2
      rw [e0] at d0
      rw [e1] at d1
      rw [e2] at d2
      have hn : numL s.data.toList = 100 * ((a.toNat : Int) - 48) + 10 * ((b.toNat : Int) - 48) + ((c.toNat : Int) - 48) := by
        rw [hl]
        simp only [numL, List.foldl_cons, List.foldl_nil]
        omega
      rw [hc] at hM
      by_cases h1 : a.toNat < 49
      · have h0 : stN s = 0 := by unfold stN stB; rw [hc, hn, if_neg]; simp; omega
        rw [h0]
        have a1 : (a.toNat : Int) < 49 := by omega
        clear hc h3 h0 hl hn hd d0 d1 d2 h1
        go_enter Tryd.func60, Tryd.ntmps60
        go_wp2_with (go_at_call 40; refine (hM.out _).mono ?_; rintro e w' ⟨rfl, hw⟩; rw [hw]; clear hw)
        go_ret
        exact ⟨rfl, Below.refl _ _⟩
      · have a1 : ¬ (a.toNat : Int) < 49 := by omega
        by_cases h2 : 53 < a.toNat
        · have h0 : stN s = 0 := by unfold stN stB; rw [hc, hn, if_neg]; simp; omega
          rw [h0]
          have a2 : (53 : Int) < (a.toNat : Int) := by omega
          clear hc h3 h0 hl hn hd d0 d1 d2 h1 h2
          go_enter Tryd.func60, Tryd.ntmps60
          go_wp2_with (go_at_call 40; refine (hM.out _).mono ?_; rintro e w' ⟨rfl, hw⟩; rw [hw]; clear hw)
          go_ret
          exact ⟨rfl, Below.refl _ _⟩
        · have h0 : stN s = 100 * ((a.toNat : Int) - 48) + 10 * ((b.toNat : Int) - 48) + ((c.toNat : Int) - 48) := by unfold stN stB; rw [hc, hn, if_pos]; simp; omega
          rw [h0]
          have a2 : ¬ (53 : Int) < (a.toNat : Int) := by omega
          have b0 : 48 ≤ (a.toNat : Int) ∧ (a.toNat : Int) ≤ 57 := by omega
          have b1 : 48 ≤ (b.toNat : Int) ∧ (b.toNat : Int) ≤ 57 := by omega
          have b2 : 48 ≤ (c.toNat : Int) ∧ (c.toNat : Int) ≤ 57 := by omega
          clear hc h3 h0 hl hn hd d0 d1 d2 h1 h2
          obtain ⟨b00, b01⟩ := b0
          obtain ⟨b10, b11⟩ := b1
          obtain ⟨b20, b21⟩ := b2
          go_enter Tryd.func60, Tryd.ntmps60
          go_wp2_with (go_at_call 40; refine (hM.out _).mono ?_; rintro e w' ⟨rfl, hw⟩; rw [hw]; clear hw)
          go_quiet (fail)
          go_wp2_with fail
          go_ret
          exact ⟨by first | rfl | simp, below_drewN (Below.refl _ _) _⟩
  · rw [st_short h3]
    have h3' : ((s.size : Int) != 3) = true := by simp; omega
    clear h3
    go_enter Tryd.func60, Tryd.ntmps60
    go_wp2_with fail
    go_ret
    exact ⟨rfl, Below.refl _ _⟩
end Go.Proofs.YtcgfgjhhmbfmdaaDoor
