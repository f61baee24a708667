/- Same lists; sizes; room. -/
import Derived.Test.YtcgfgjhhmbfmdaaDoorC2
import Derived.Test.YtcgfgjhhmbfmdaaDoorAf
namespace Go.Proofs.YtcgfgjhhmbfmdaaDoor
open Go.RowKit Go.Maps
set_option linter.unusedVariables false
set_option linter.unusedSimpArgs false

theorem slice_len {α : Type} {E : El α} {w : World} {b : Option Addr} {n c : Nat} {l : List α} (h : In E w (.slice b n c) l) : n = l.length ∧ l.length ≤ c ∧ c ≤ 9223372036854775807 := by
  obtain ⟨_, _, e, q1, q2⟩ := h.slice
  injection e with _ e1 e2
  subst e2
  exact ⟨e1, q1, q2⟩
set_option maxHeartbeats 4000000 in
set_option maxRecDepth 100000 in
theorem rsame_eq (s t : SV) (l : List Fd) (w : World) (hI : In EFd w (sv s) l) (hJ : In EFd w (sv t) l) :
    Calls Tryd.prog 34 #[sv s, sv t] w fun e w' => e = .returned (.bool true) ∧ Below w.heap.size w w' := by
  have HI : Hid (In EFd w (sv s) l) := hI
  have HJ : Hid (In EFd w (sv t) l) := hJ
  obtain ⟨sb, sl, sc⟩ := s
  obtain ⟨tb, tl, tc⟩ := t
  obtain ⟨e1, e2, e3⟩ := slice_len hI
  obtain ⟨f1, f2, f3⟩ := slice_len hJ
  subst e1 f1
  simp only [sv] at HI HJ ⊢
  clear hI hJ
  go_enter Tryd.func34, Tryd.ntmps34
  go_wp2_with fail
  go_loopw [5] (fun iv wr => ∃ k : Nat, iv = .int .i64 (k : Int) ∧ k ≤ l.length ∧ Hid (Below w.heap.size w wr)) (fun iv _ => l.length - (intOf iv).toNat)
  case atStart => exact ⟨0, rfl, by omega, Below.refl _ _⟩
  case round =>
    obtain ⟨k, rfl, hk, hb⟩ := hrel
    by_cases hlt : k < l.length
    · obtain ⟨Bk, off, cap, e, hc⟩ := HI.out.fd k hlt
      injection e with e1 e2 e3
      clear e2 e3
      subst e1
      obtain ⟨c0, c1, c2⟩ := hc wr hb.out
      obtain ⟨Bj, off', cap', e, hc'⟩ := HJ.out.fd k hlt
      injection e with e1 e2 e3
      clear e2 e3
      subst e1
      obtain ⟨d0, d1, d2⟩ := hc' wr hb.out
      have hlt' : (k : Int) < (l.length : Int) := by omega
      obtain ⟨x, hx⟩ : ∃ x, l[k] = x := ⟨_, rfl⟩
      rw [hx] at c0 c1 c2 d0 d1 d2
      clear hx hc hc'
      obtain ⟨xn, xv, xb⟩ := x
      simp only at c0 c1 c2 d0 d1 d2
      go_wp2_with fail
      go_quiet (fail)
      go_wp2_with fail
      go_roundw
      case rel => exact ⟨k + 1, by simp, by omega, below_drewN hb.out _⟩
      case measure => simp [intOf]; omega
    · obtain rfl : k = l.length := by omega
      have hlt' : ¬ (l.length : Int) < (l.length : Int) := by omega
      go_wp2_with fail
      go_ret
      exact ⟨rfl, hb.out⟩

set_option maxHeartbeats 4000000 in
set_option maxRecDepth 100000 in
theorem same_eq (s t : SV) (l : List Fd) (w : World) (hI : In EFd w (sv s) l) (hJ : In EFd w (sv t) l) :
    Calls Tryd.prog 17 #[sv s, sv t] w fun e w' => e = .returned (.bool true) ∧ Below w.heap.size w w' := by
  have HI : Hid (In EFd w (sv s) l) := hI
  have HJ : Hid (In EFd w (sv t) l) := hJ
  obtain ⟨sb, sl, sc⟩ := s
  obtain ⟨tb, tl, tc⟩ := t
  obtain ⟨e1, e2, e3⟩ := slice_len hI
  obtain ⟨f1, f2, f3⟩ := slice_len hJ
  subst e1 f1
  simp only [sv] at HI HJ ⊢
  clear hI hJ
  go_enter Tryd.func17, Tryd.ntmps17
  go_wp2_with fail
  go_loopw [5] (fun iv wr => ∃ k : Nat, iv = .int .i64 (k : Int) ∧ k ≤ l.length ∧ Hid (Below w.heap.size w wr)) (fun iv _ => l.length - (intOf iv).toNat)
  case atStart => exact ⟨0, rfl, by omega, Below.refl _ _⟩
  case round =>
    obtain ⟨k, rfl, hk, hb⟩ := hrel
    by_cases hlt : k < l.length
    · obtain ⟨Bk, off, cap, e, hc⟩ := HI.out.fd k hlt
      injection e with e1 e2 e3
      clear e2 e3
      subst e1
      obtain ⟨c0, c1, c2⟩ := hc wr hb.out
      obtain ⟨Bj, off', cap', e, hc'⟩ := HJ.out.fd k hlt
      injection e with e1 e2 e3
      clear e2 e3
      subst e1
      obtain ⟨d0, d1, d2⟩ := hc' wr hb.out
      have hlt' : (k : Int) < (l.length : Int) := by omega
      obtain ⟨x, hx⟩ : ∃ x, l[k] = x := ⟨_, rfl⟩
      rw [hx] at c0 c1 c2 d0 d1 d2
      clear hx hc hc'
      obtain ⟨xn, xv, xb⟩ := x
      simp only at c0 c1 c2 d0 d1 d2
      go_wp2_with fail
      go_quiet (fail)
      go_wp2_with fail
      go_roundw
      case rel => exact ⟨k + 1, by simp, by omega, below_drewN hb.out _⟩
      case measure => simp [intOf]; omega
    · obtain rfl : k = l.length := by omega
      have hlt' : ¬ (l.length : Int) < (l.length : Int) := by omega
      go_wp2_with fail
      go_ret
      exact ⟨rfl, hb.out⟩

def wsz (n : Int) (f : Fd) : Int := wrap64 (n + ((f.n.size : Int) + (f.v.size : Int) + 32))
def szW (l : List Fd) : Int := l.foldl wsz 0
theorem szW_succ (l : List Fd) (k : Nat) (h : k < l.length) : szW (l.take (k + 1)) = wsz (szW (l.take k)) l[k] := by
  unfold szW
  rw [List.take_succ_eq_append_getElem h, List.foldl_append]
  rfl
theorem wrap3 (n a b : Int) : wrap64 (wrap64 (wrap64 (n + a) + b) + 32) = wrap64 (n + (a + b + 32)) := by
  unfold wrap64
  omega
set_option maxHeartbeats 4000000 in
set_option maxRecDepth 100000 in
theorem size_any (s : SV) (l : List Fd) (w : World) (hI : In EFd w (sv s) l) (hz : ∀ f ∈ l, f.n.size ≤ 140737488355328 ∧ f.v.size ≤ 140737488355328) :
    Calls Tryd.prog 31 #[sv s] w fun e w' => e = .returned (.int .i64 (szW l)) ∧ Below w.heap.size w w' := by
  have HI : Hid (In EFd w (sv s) l) := hI
  have HZ : Hid (∀ f ∈ l, f.n.size ≤ 140737488355328 ∧ f.v.size ≤ 140737488355328) := hz
  obtain ⟨sb, sl, sc⟩ := s
  obtain ⟨e1, hcap1, hcap2⟩ := slice_len hI
  subst e1
  simp only [sv] at HI ⊢
  clear hI hz
  go_enter Tryd.func31, Tryd.ntmps31
  go_wp2_with fail
  go_loopw [3, 5, 8] (fun nv _ kv wr => ∃ (k : Nat) (N : Int), kv = .int .i64 (k : Int) ∧ k ≤ l.length ∧ nv = .int .i64 N ∧ Hid (N = szW (l.take k)) ∧ Hid (Below w.heap.size w wr)) (fun _ _ kv _ => l.length - (intOf kv).toNat)
  case atStart => exact ⟨0, 0, rfl, by omega, rfl, by show _ = _; simp [szW], Below.refl _ _⟩
  case round =>
    obtain ⟨k, N, rfl, hk, rfl, hN, hb⟩ := hrel
    by_cases hlt : k < l.length
    · obtain ⟨Bk, off, cap, e, hc⟩ := HI.out.fd k hlt
      injection e with e1 e2 e3
      clear e2 e3
      subst e1
      obtain ⟨c0, c1, c2⟩ := hc wr hb.out
      obtain ⟨x, hx⟩ : ∃ x, l[k] = x := ⟨_, rfl⟩
      rw [hx] at c0 c1 c2
      obtain ⟨hx1, hx2⟩ := HZ.out x (by rw [← hx]; exact List.getElem_mem hlt)
      have hNx : Hid (wsz N x = szW (l.take (k + 1))) := by
        show _ = _
        rw [szW_succ l k hlt, ← hN.out, hx]
      have hbb : Hid (Below w.heap.size w (wr.alloc (.cells #[.string x.n, .string x.v, .bool x.nv] 34))) := hb.out.trans ((bel1 wr _).mono hb.out.size)
      clear hc hx hN
      go_wp2_with fail
      go_roundw
      case rel => exact ⟨k + 1, wsz N x, by simp, by omega, by first | rfl | (unfold wsz; simp), hNx.out, hbb.out⟩
      case measure => simp [intOf]; omega
    · obtain rfl : k = l.length := by omega
      have hlt' : ¬ (l.length : Int) < (l.length : Int) := by omega
      have hNN : Hid (N = szW l) := by
        have := hN.out
        rw [List.take_length] at this
        exact this
      clear hN
      go_wp2_with fail
      go_ret
      exact ⟨by rw [← hNN.out]; rfl, hb.out⟩
set_option maxHeartbeats 4000000 in
set_option maxRecDepth 100000 in
theorem rsize_any (s : SV) (l : List Fd) (w : World) (hI : In EFd w (sv s) l) (hz : ∀ f ∈ l, f.n.size ≤ 140737488355328 ∧ f.v.size ≤ 140737488355328) :
    Calls Tryd.prog 32 #[sv s] w fun e w' => e = .returned (.int .i64 (szW l)) ∧ Below w.heap.size w w' := by
  have HI : Hid (In EFd w (sv s) l) := hI
  have HZ : Hid (∀ f ∈ l, f.n.size ≤ 140737488355328 ∧ f.v.size ≤ 140737488355328) := hz
  obtain ⟨sb, sl, sc⟩ := s
  obtain ⟨e1, hcap1, hcap2⟩ := slice_len hI
  subst e1
  simp only [sv] at HI ⊢
  clear hI hz
  go_enter Tryd.func32, Tryd.ntmps32
  go_wp2_with fail
  go_loopw [3, 4] (fun nv kv wr => ∃ (k : Nat) (N : Int), kv = .int .i64 (k : Int) ∧ k ≤ l.length ∧ nv = .int .i64 N ∧ Hid (N = szW (l.take k)) ∧ Hid (Below w.heap.size w wr)) (fun _ kv _ => l.length - (intOf kv).toNat)
  case atStart => exact ⟨0, 0, rfl, by omega, rfl, by show _ = _; simp [szW], Below.refl _ _⟩
  case round =>
    obtain ⟨k, N, rfl, hk, rfl, hN, hb⟩ := hrel
    by_cases hlt : k < l.length
    · obtain ⟨Bk, off, cap, e, hc⟩ := HI.out.fd k hlt
      injection e with e1 e2 e3
      clear e2 e3
      subst e1
      obtain ⟨c0, c1, c2⟩ := hc wr hb.out
      obtain ⟨x, hx⟩ : ∃ x, l[k] = x := ⟨_, rfl⟩
      rw [hx] at c0 c1 c2
      obtain ⟨hx1, hx2⟩ := HZ.out x (by rw [← hx]; exact List.getElem_mem hlt)
      have hNx : Hid (wsz N x = szW (l.take (k + 1))) := by
        show _ = _
        rw [szW_succ l k hlt, ← hN.out, hx]
      have hlt' : (k : Int) < (l.length : Int) := by omega
      clear hc hx hN
      go_wp2_with fail
      go_quiet (fail)
      go_wp2_with fail
      go_roundw
      case rel => exact ⟨k + 1, wsz N x, by simp, by omega, by first | rfl | (unfold wsz; rw [← wrap3]) | (unfold wsz; rw [← wrap3]; rfl), hNx.out, below_drewN hb.out _⟩
      case measure => simp [intOf]; omega
    · obtain rfl : k = l.length := by omega
      have hlt' : ¬ (l.length : Int) < (l.length : Int) := by omega
      have hNN : Hid (N = szW l) := by
        have := hN.out
        rw [List.take_length] at this
        exact this
      clear hN
      go_wp2_with fail
      go_ret
      exact ⟨by rw [← hNN.out]; rfl, hb.out⟩

def mark1 : Fd := ⟨⟨#[109, 97, 114, 107]⟩, ⟨#[]⟩, false⟩
def mark2 : Fd := ⟨⟨#[]⟩, ⟨#[109, 97, 114, 107]⟩, false⟩
set_option maxHeartbeats 4000000 in
set_option maxRecDepth 100000 in
theorem roomy_any (s : SV) (l : List Fd) (w : World) (hI : In EFd w (sv s) l) (hlen : (l.length + 2) * 40 ≤ 140737488355328) :
    Calls Tryd.prog 26 #[sv s] w fun e w' => FdPost (l ++ [mark1, mark2]) w e w' := by
  obtain ⟨sb, sl, sc⟩ := s
  obtain ⟨es, hcap1, hcap2⟩ := slice_len hI
  obtain ⟨ab, ac, w1, g1, g2, g3⟩ := app okFd w (.slice none 0 0) [] (R.nil _ _) _ _ hI (by simp only [EFd, List.length_nil]; omega)
  simp only [List.length_nil, Nat.zero_add, List.nil_append] at g1 g2 g3
  have b1 := g3.fresh
  have hin : In EFd (w1.alloc (.cells #[.string ⟨#[109, 97, 114, 107]⟩, .string ⟨#[]⟩, .bool false, .string ⟨#[]⟩, .string ⟨#[109, 97, 114, 107]⟩, .bool false] 34)) (.slice (some ⟨w1.heap.size, 0, none⟩) 2 2) [mark1, mark2] := by
    refine .inr ⟨_, 2, rfl, by decide, by omega, fun j u hu => ?_⟩
    rw [Addr.add_lit, cell_blk (by rw [heap_al, if_pos rfl]), Nat.zero_add, ← Array.getElem?_toList]
    exact hu
  have b2 := bel1 w1 (.cells #[.string ⟨#[109, 97, 114, 107]⟩, .string ⟨#[]⟩, .bool false, .string ⟨#[]⟩, .string ⟨#[109, 97, 114, 107]⟩, .bool false] 34)
  obtain ⟨cb, cc, w2, k1, k2, k3⟩ := app okFd _ _ _ (g2.below b2) _ _ hin (by simp only [EFd, List.length_cons, List.length_nil]; omega)
  simp only [List.length_cons, List.length_nil, Nat.zero_add] at k1 k2 k3
  have b12 := b1.trans (b2.mono b1.size)
  have HF : Hid (FdPost (l ++ [mark1, mark2]) w (.returned (.slice cb (l.length + 2) cc)) w2) := by
    refine ⟨(cb, l.length + 2, cc), rfl, b12.trans (k3.belowB b12.size (g3.new)), k2, fun k hk => ?_⟩
    rcases k3.own k hk with e | e
    · exact g3.new k e
    · exact Nat.le_trans b12.size e
  replace g1 : Hid _ := g1
  replace k1 : Hid _ := k1
  subst es
  simp only [sv, EFd] at g1 k1 ⊢
  clear hI hin b1 b2 b12 g2 g3 k2 k3
  go_enter Tryd.func26, Tryd.ntmps26
  go_wp2_with (at_builtin; first | refine Lib.wpList_append_run _ rfl _ _ _ _ rfl _ _ rfl rfl _ _ g1.out ?_ | refine Lib.wpList_append_run _ rfl _ _ _ _ rfl _ _ rfl rfl _ _ k1.out ?_)
  go_ret
  exact HF.out
end Go.Proofs.YtcgfgjhhmbfmdaaDoor
