/- Texts of this claim, one behind the other: JLp, JCk, JLq. -/
import Derived.Test.YtgpfognglpfmoaaGreatDoorZ15
import Derived.Test.YtgpfognglpfmoaaGreatDoorZ14
import Derived.Test.YtgpfognglpfmoaaGreatDoorZ13
import Derived.RangeFuncNested
import Derived.RangeFuncBound
import Derived.RangeFuncCalls
import Derived.RangeFuncLeaves
import Derived.Shelf.Abstract
import Derived.Shelf.RegionOpen
import Derived.WalkKit
import Derived.OwnWalkIn
import Derived.TacticsInMore
import Derived.LoopNIn
import Derived.LoopIn
import Derived.StillTailTactics
set_option linter.unusedSimpArgs false
set_option linter.unusedVariables false
section
/- A log: its end, its tail, does an area begin with it. -/
namespace Go.Proofs.YtgpfognglpfmoaaGreatDoor
set_option maxRecDepth 8192
set_option linter.unusedSimpArgs false
set_option linter.unusedVariables false
open Go.RowKit

/-- The pointer to a log. -/
abbrev pt0 (g : Nat) : Value := .pointer (some ⟨g, 0, none⟩)

section
variable {w w' : World} {base g E : Nat} {rs : List (UInt8 × List UInt8)} {v : Value} {may : Nat → Prop}

theorem Ow.form {l : List UInt8} (h : Ow w base v l) : ∃ A c, v = .slice A l.length c ∧ l.length ≤ c ∧ c ≤ maxLen ∧ Rd w w.heap.size A l.length c l := by
  obtain ⟨A, c, e, hr⟩ := h.rd
  refine ⟨A, c, e, hr.cap, ?_, hr⟩
  rcases h.2 with ⟨e2, _⟩ | ⟨b, cap, cur, e2, _, _, _, h2, _⟩
  · rw [e] at e2; injection e2 with _ _ e3; rw [e3]; unfold maxLen; omega
  · rw [e] at e2; injection e2 with _ _ e3; rw [e3]; exact h2
theorem Ow.kpF {l : List UInt8} (h : Ow w base v l) (hk : Kp may w w') (hm : ∀ k, v.ownBlock = some k → ¬ may k) : Ow w' base v l := by
  refine ⟨h.1, ?_⟩
  rcases h.2 with hn | ⟨b, cap, cur, e, hb, hrow, r⟩
  · exact .inl hn
  · exact .inr ⟨b, cap, cur, e, hb, (hk.block b (Array.getElem?_eq_some_iff.1 hrow).1 (hm b (by rw [e]; rfl))).trans hrow, r⟩
theorem Lg.kp (h : Lg w base g E rs v) (hk : Kp may w w') (h1 : ¬ may g) (h2 : ∀ k, v.ownBlock = some k → ¬ may k) : Lg w' base g E rs v :=
  ⟨by obtain ⟨lr, hb⟩ := h.bk; exact ⟨lr, hb.kp hk h1⟩, h.row.kpF hk h2, h.ne, h.nil, h.hg⟩
theorem Lg.old (h : Lg w base g E rs v) (hb : Below w.heap.size w w') : Lg w' base g E rs v := h.kp (may := fun _ => False) (Kp.of_old hb) (fun h => h) (fun _ _ h => h)
theorem Lg.lt (h : Lg w base g E rs v) : g < w.heap.size := by obtain ⟨_, hb⟩ := h.bk; exact hb.lt
theorem Lg.vlt (h : Lg w base g E rs v) : ∀ k, v.ownBlock = some k → k < w.heap.size := fun k e => (World.ownsRow.lt h.row k e).2
theorem Lg.slice (h : Lg w base g E rs v) : ∃ A c, v = .slice A (recsB (fstC E) rs).length c ∧ (recsB (fstC E) rs).length ≤ c ∧ c ≤ 9223372036854775807 ∧ Rd w w.heap.size A (recsB (fstC E) rs).length c (recsB (fstC E) rs) := by
  obtain ⟨A, c, e, h1, h2, h3⟩ := h.row.form
  exact ⟨A, c, e, h1, by unfold maxLen at h2; omega, h3⟩

theorem end_any (h : Lg w base g E rs v) (hl : (recsB (fstC E) rs).length ≤ 1073741824) :
    Calls Tryz.prog 48 #[pt0 g] w fun e w' => e = .returned (.int .i64 ((recsB (fstC E) rs).length : Int)) ∧ ∃ k, w' = w.drewN k := by
  obtain ⟨A, c, rfl, h1, h2, h3⟩ := h.slice
  obtain ⟨lr, hb⟩ := h.bk
  have HB := Lib.hid hb
  clear h hb h3
  generalize recsB (fstC E) rs = R at *
  go_enter Tryz.func48, Tryz.ntmps48
  go_wp2_with fail
  refine (BLen_any HB.out hl).mono ?_
  rintro e w1 ⟨rfl, k, hk⟩
  have HK := Lib.hid hk
  clear hk
  go_wp2
  go_ret
  exact ⟨rfl, k, HK.out⟩

/-- A part of the log's bytes, as a slice of its row. -/
def Tail (w : World) (v : Value) (l : List UInt8) (e : Ending) (w' : World) : Prop :=
  ∃ A c, e = .returned (.slice A l.length c) ∧ Rd w' w'.heap.size A l.length c l ∧ (∀ ad, A = some ad → v.ownBlock = some ad.block) ∧ ∃ k, w' = w.drewN k
theorem tail_any (h : Lg w base g E rs v) (f : Nat) (hf : f ≤ (recsB (fstC E) rs).length) :
    Calls Tryz.prog 54 #[pt0 g, .int .i64 (f : Int)] w (Tail w v ((recsB (fstC E) rs).drop f)) := by
  obtain ⟨A, c, rfl, h1, h2, h3⟩ := h.slice
  obtain ⟨lr, hb⟩ := h.bk
  have HB := Lib.hid hb
  have HD := Lib.hid (h3.drop_ hf)
  have HL := Lib.hid (List.length_drop (l := recsB (fstC E) rs) (i := f))
  clear h hb h3
  generalize recsB (fstC E) rs = R at *
  generalize hD : R.drop f = D at *
  generalize hn : R.length = n at *
  clear hD hn
  go_enter Tryz.func54, Tryz.ntmps54
  go_wp2_with fail
  refine (BBytes_any HB.out h1 h2).mono ?_
  rintro e w1 ⟨rfl, k, hk⟩
  have HK := Lib.hid hk
  clear hk
  by_cases hc : c = f
  · have hd := HD.out
    rw [if_pos hc, show c - f = 0 by omega] at hd
    have HD2 := Lib.hid hd
    clear hd HD
    go_wp2
    go_ret
    refine ⟨A, 0, by rw [HL.out]; rfl, ?_, fun ad e => by rw [e]; rfl, k, HK.out⟩
    rw [HK.out, HL.out]
    exact HD2.out
  · have hd := HD.out
    rw [if_neg hc] at hd
    have HD2 := Lib.hid hd
    clear hd HD
    go_wp2
    go_ret
    refine ⟨A.map (·.add f), c - f, by rw [HL.out]; rfl, ?_, fun ad e => ?_, k, HK.out⟩
    · rw [HK.out, HL.out]
      exact HD2.out
    · rcases A with _ | a
      · cases e
      · simp only [Option.map_some, Option.some.injEq] at e
        subst e
        rw [add_block]
        rfl

theorem Prefix_yes {A A2 : Option Addr} {n c n2 c2 top top2 : Nat} {l l2 : List UInt8} (w : World) (h1 : Rd w top A n c l) (h2 : Rd w top2 A2 n2 c2 l2) (hn : n2 ≤ n) (h : l.take n2 = l2) :
    Calls Tryz.prog 116 #[.slice A n c, .slice A2 n2 c2] w fun e w' => e = .returned (.bool true) ∧ w = w' := by
  have HE := Lib.hid (Equal_yes w (h1.take_ hn) h2 h)
  have hc := h1.cap
  clear h h1 h2
  go_enter Tryz.func116, Tryz.ntmps116
  go_wp2_with (go_at_call 115; refine HE.out.mono ?_; rintro e w' ⟨rfl, rfl⟩)
  go_ret
  exact ⟨rfl, rfl⟩

theorem begins_any (h : Lg w base g E rs v) {A : Option Addr} {n c : Nat} {l : List UInt8} (hr : Rd w w.heap.size A n c l) (hn : (recsB (fstC E) rs).length ≤ n) (hp : l.take (recsB (fstC E) rs).length = recsB (fstC E) rs) :
    Calls Tryz.prog 85 #[pt0 g, .slice A n c] w fun e w' => e = .returned (.bool true) ∧ ∃ k, w' = w.drewN k := by
  have HT := Lib.hid (tail_any h 0 (Nat.zero_le _))
  rw [List.drop_zero] at HT
  have HR := Lib.hid hr
  have HP := Lib.hid hp
  clear h hr hp
  generalize recsB (fstC E) rs = R at *
  go_enter Tryz.func85, Tryz.ntmps85
  go_wp2_with fail
  refine HT.out.mono ?_
  rintro e w1 ⟨A2, c2, rfl, hr2, _, k, hk⟩
  have HK := Lib.hid hk
  have HR2 := Lib.hid hr2
  have HR1 : Hid (Rd w1 w1.heap.size A n c l) := Lib.hid (by rw [hk]; exact HR.out)
  clear hk hr2
  have HPY := Lib.hid (Prefix_yes w1 HR1.out HR2.out hn HP.out)
  go_wp2_with (go_at_call 116; refine HPY.out.mono ?_; rintro e w' ⟨rfl, rfl⟩)
  go_ret
  exact ⟨rfl, k, HK.out⟩

end
end Go.Proofs.YtgpfognglpfmoaaGreatDoor
end
section
/- slices.Chunk over bytes, pieces of 256: what it hands on. -/
namespace Go.Proofs.YtgpfognglpfmoaaGreatDoor
set_option maxRecDepth 8192
set_option linter.unusedSimpArgs false
set_option linter.unusedVariables false
open Go.RowKit Go.Shelf

attribute [local go_sem] Oper.semAt_some

/-- What a round keeps of what the iterator reads: its two variables. -/
def Kch (b1 b2 : Nat) (W W' : World) : Prop := W'.heap[b1]? = W.heap[b1]? ∧ W'.heap[b2]? = W.heap[b2]?
theorem Kch.refl (b1 b2 : Nat) (W : World) : Kch b1 b2 W W := ⟨rfl, rfl⟩
theorem Kch.trans {b1 b2 : Nat} {A B C : World} (h : Kch b1 b2 A B) (k : Kch b1 b2 B C) : Kch b1 b2 A C := ⟨k.1.trans h.1, k.2.trans h.2⟩
theorem Kch.put {b1 b2 : Nat} {w : World} (h1 : b1 < w.heap.size) (h2 : b2 < w.heap.size) (W : World) (l : Nat) (o o' : Obj) (hl : w.heap.size ≤ l) (_ : W.heap[l]? = some o) (_ : o.isCells = false) (_ : o.isWalk = false) : Kch b1 b2 W (W.putObj l o') :=
  ⟨World.putObj_heap_other (by omega), World.putObj_heap_other (by omega)⟩

/-- Piece number j of the bytes at ad. -/
def piece (ad : Addr) (j : Nat) : Array Value := #[.slice (some (ad.add (j * 256))) 256 256]

theorem chunk_call (ad : Option Addr) (m c : Nat) (w : World) : Calls Tryz.prog 93 #[.slice ad m c, .int .i64 256] w fun e w' =>
    e = .returned (.func (.func 124) #[] #[.pointer (some ⟨w.heap.size, 0, none⟩), .pointer (some ⟨w.heap.size + 1, 0, none⟩)]) ∧ w' = (w.alloc (.cells #[.slice ad m c] 31)).alloc (.cells #[.int .i64 256] 3) := by
  go_enter Tryz.func93, Tryz.ntmps93
  go_wp2
  go_ret
  exact ⟨rfl, rfl⟩

set_option maxHeartbeats 3200000 in
theorem chunk1_in (n : Nat) (hn : 1 ≤ n) (l b1 b2 : Nat) (ad : Addr) (q c : Nat) (hq : q ≤ 65536) (hc : q * 256 ≤ c) (hc2 : c ≤ 9223372036854775807) (J : Nat → World → Prop)
    (hY : ∀ k W, J k W → k < q → YieldAt Fence.wide (n - 1) Tryz.prog l (piece ad k) W fun e W' => e = .returned (.bool true) ∧ J (k + 1) W' ∧ Kch b1 b2 W W')
    (hJd : ∀ k W, J k W → J k W.drew)
    (W : World) (h1 : Bk W b1 [.slice (some ad) (q * 256) c]) (h2 : Bk W b2 [.int .i64 256]) (h0 : J 0 W) :
    CallsIn Fence.wide n Tryz.prog 124 #[.func (.yield l) #[] #[], .pointer (some ⟨b1, 0, none⟩), .pointer (some ⟨b2, 0, none⟩)] W fun e W' => (∃ v, e = .returned v) ∧ J q W' := by
  refine callsIn_of_wp Tryz.func124 rfl trivial ?_ rfl
  simp only [Tryz.ntmps124, List.size_toArray, List.length_cons, List.length_nil, Nat.reduceAdd, Nat.reduceSub, Array.replicate_succ, Array.replicate_zero, List.push_toArray, List.append_toArray, List.nil_append, List.cons_append]
  gi_wp2
  gi_loopw [4] (fun i wr => ∃ (k : Nat), k ≤ q ∧ i = .int .i64 ((k * 256 : Nat) : Int) ∧ Hid (J k wr) ∧ Hid (Kch b1 b2 W wr))
    (fun i _ => (q * 256 - (intOf i).toNat))
  case atStart => exact ⟨0, Nat.zero_le _, rfl, Lib.hid h0, Lib.hid (Kch.refl _ _ _)⟩
  case round =>
    obtain ⟨k, hk, rfl, hJs, hkc⟩ := hrel
    have c1 : wr.cell? ⟨b1, 0, none⟩ = some (.slice (some ad) (q * 256) c) := (World.cell?_of_block (a := ⟨b1, 0, none⟩) hkc.out.1).trans (h1.cell rfl)
    have c2 : wr.cell? ⟨b2, 0, none⟩ = some (.int .i64 256) := (World.cell?_of_block (a := ⟨b2, 0, none⟩) hkc.out.2).trans (h2.cell rfl)
    by_cases hkq : k < q
    · have hlt : k * 256 < q * 256 := by omega
      gi_wp2
      refine wpIn_wide.2 ?_
      have hR := Kp.stays (fun _ => False)
      refine reg_start (Kp (fun _ => False)) follows_mixed ?_
      have hJ1 := Lib.hid (hJd _ _ hJs.out)
      have hk1 : Hid (Kch b1 b2 W wr.drew) := Lib.hid hkc.out
      have hl1 := Lib.hid (show b1 < wr.drew.heap.size ∧ b2 < wr.drew.heap.size from ⟨block_lt_of_cell c1, block_lt_of_cell c2⟩)
      have d1 : wr.drew.cell? ⟨b1, 0, none⟩ = some (.slice (some ad) (q * 256) c) := c1
      have d2 : wr.drew.cell? ⟨b2, 0, none⟩ = some (.int .i64 256) := c2
      clear hJs hkc c1 c2
      generalize wr.drew = w1 at hJ1 hk1 hl1 d1 d2 ⊢
      refine reg_take (v := .int .i64 256) hR 0 rfl (by kernel_rfl) (by kernel_rfl) (by kernel_rfl) (fun _ _ _ h => by first | exact h | cases h.1) (by rfl) ?_ ?_
      · intro W hW; exact exec_load_cell 3 _ rfl Tryz.isAgg3 rfl ((hW.cell (p := ⟨b2, 0, none⟩) hl1.out.2 id).trans d2)
      try simp only [Act.put, List.getElem_toArray, List.getElem_cons_succ, List.getElem_cons_zero, List.setIfInBounds_toArray, List.set_cons_zero, List.set_cons_succ]
      refine reg_take (v := .slice (some ad) (q * 256) c) hR 1 rfl (by kernel_rfl) (by kernel_rfl) (by kernel_rfl) (fun _ _ _ h => by first | exact h | cases h.1) (by rfl) ?_ ?_
      · intro W hW; exact exec_load_cell 31 _ rfl Tryz.isAgg31 rfl ((hW.cell (p := ⟨b1, 0, none⟩) hl1.out.1 id).trans d1)
      try simp only [Act.put, List.getElem_toArray, List.getElem_cons_succ, List.getElem_cons_zero, List.setIfInBounds_toArray, List.set_cons_zero, List.set_cons_succ]
      refine reg_take (v := .int .i64 ((k * 256 : Nat) : Int)) hR 2 rfl (by kernel_rfl) (by kernel_rfl) (by kernel_rfl) (fun _ _ _ h => by first | exact h | cases h.1) (by rfl) ?_ ?_
      · intro W hW; go_simp; try with_reducible rfl
      try simp only [Act.put, List.getElem_toArray, List.getElem_cons_succ, List.getElem_cons_zero, List.setIfInBounds_toArray, List.set_cons_zero, List.set_cons_succ]
      refine reg_take (v := .slice (restAt (some ad) c (k * 256)) (q * 256 - k * 256) (c - k * 256)) hR 3 rfl (by kernel_rfl) (by kernel_rfl) (by kernel_rfl) (fun _ _ _ h => by first | exact h | cases h.1) (by rfl) ?_ ?_
      · intro W hW; exact exec_slice31_lo _ _ rfl rfl rfl (by omega) rfl
      try simp only [Act.put, List.getElem_toArray, List.getElem_cons_succ, List.getElem_cons_zero, List.setIfInBounds_toArray, List.set_cons_zero, List.set_cons_succ]
      refine reg_take (v := .int .i64 ((q * 256 - k * 256 : Nat) : Int)) hR 4 rfl (by kernel_rfl) (by kernel_rfl) (by kernel_rfl) (fun _ _ _ h => by first | exact h | cases h.1) (by rfl) ?_ ?_
      · intro W hW; go_simp; try with_reducible rfl
      try simp only [Act.put, List.getElem_toArray, List.getElem_cons_succ, List.getElem_cons_zero, List.setIfInBounds_toArray, List.set_cons_zero, List.set_cons_succ]
      refine reg_take (v := .int .i64 256) hR 5 rfl (by kernel_rfl) (by kernel_rfl) (by kernel_rfl) (fun _ _ _ h => by first | exact h | cases h.1) (by rfl) ?_ ?_
      · intro W hW; go_simp; try with_reducible rfl
        all_goals omega
      try simp only [Act.put, List.getElem_toArray, List.getElem_cons_succ, List.getElem_cons_zero, List.setIfInBounds_toArray, List.set_cons_zero, List.set_cons_succ]
      refine reg_take (v := .int .i64 256) hR 6 rfl (by kernel_rfl) (by kernel_rfl) (by kernel_rfl) (fun _ _ _ h => by first | exact h | cases h.1) (by rfl) ?_ ?_
      · intro W hW; go_simp; try with_reducible rfl
      try simp only [Act.put, List.getElem_toArray, List.getElem_cons_succ, List.getElem_cons_zero, List.setIfInBounds_toArray, List.set_cons_zero, List.set_cons_succ]
      refine reg_done (by kernel_rfl) ?_ _
      obtain ⟨fn, tmps, assign, body, hy, hRd⟩ := hY k w1 hJ1.out hkq
      dsimp only [piece] at hy
      have HRd := Lib.hid hRd
      clear hRd
      gi_wp2
      refine HRd.out.mono ?_
      rintro e W3 ⟨rfl, hJ3, hk3⟩
      · have e2 : W3.cell? ⟨b2, 0, none⟩ = some (.int .i64 256) := (World.cell?_of_block (a := ⟨b2, 0, none⟩) hk3.2).trans d2
        have HJ3 := Lib.hid hJ3
        have HK3 := Lib.hid (hk1.out.trans hk3)
        clear hJ3 hk3 hy HRd hJ1 hk1 hR d1 d2
        gi_wp2
        go_roundw
        case rel => exact ⟨k + 1, by omega, by rw [Nat.add_mul, Int.natCast_add]; rfl, HJ3, HK3⟩
        case measure => simp [intOf]; omega
    · obtain rfl : k = q := by omega
      gi_wp2
      go_end0
      exact ⟨⟨_, rfl⟩, hJs.out⟩

theorem enters124 : ∀ args w, (callFunc 124 args).run Tryz.prog w = .ok (.enter 124 args) w := enters_of Tryz.func124 (by kernel_rfl) rfl
/-- What abides the turn of a block that is no cells and lies from block B on. -/
def Firm (B : Nat) (I : World → Prop) : Prop := ∀ W W' row, I W → W.grownBy W' row → (∀ r, row = some r → B ≤ r ∧ ∃ o : Obj, W.heap[r]? = some o ∧ o.isCells = false) → I W'

set_option maxHeartbeats 1600000 in
/-- A range over the pieces of bytes: k rounds have been, when I k holds. -/
theorem range_chunk {n : Nat} {g : Operand} {pt : Tmp} (slot : Nat) {assign body : Code} {Q : Exit → Act → World → Prop} {a : Act} {w : World} (h1 : 2 ≤ n) {b1 b2 : Nat} {ad : Addr} {q c : Nat} (hq : q ≤ 65536) (hc : q * 256 ≤ c) (hc2 : c ≤ 9223372036854775807)
    (hg : a.eval g = .func (.func 124) #[] #[.pointer (some ⟨b1, 0, none⟩), .pointer (some ⟨b2, 0, none⟩)]) (hb1 : Bk w b1 [.slice (some ad) (q * 256) c]) (hb2 : Bk w b2 [.int .i64 256])
    (I : Nat → World → Prop) (hI : ∀ k, Firm w.heap.size (I k)) (h0 : I 0 w)
    (hassign : ∀ (l k : Nat) (W : World) (K : Act → World → Prop), K { tmps := (a.tmps.setIfInBounds pt (.slice (some (ad.add (k * 256))) 256 256)).setIfInBounds slot (.slice (some (ad.add (k * 256))) 256 256), defers := [] } W →
      assign.wpIn (Fence.wide.inRound l) (n - 1 - 1) Tryz.prog (Exit.then K (fun _ _ _ => False)) { tmps := a.tmps.setIfInBounds pt (.slice (some (ad.add (k * 256))) 256 256), defers := [] } W)
    (hbody : ∀ (l k : Nat) (W : World), I k W → k < q → body.wpIn (Fence.wide.inRound l) (n - 1 - 1) Tryz.prog (fun e _ W' => e = .normal ∧ KeepsFrom w.heap.size W W' ∧ Kch b1 b2 W W' ∧ I (k + 1) W') { tmps := (a.tmps.setIfInBounds pt (.slice (some (ad.add (k * 256))) 256 256)).setIfInBounds slot (.slice (some (ad.add (k * 256))) 256 256), defers := [] } W)
    (hdone : ∀ (D : Nat) (W : World), w.heap.size ≤ D → I q W → W.heap[D]? = some (.deferred (some [])) → Q .normal { a with defers := { target := .collected D, args := #[] } :: a.defers } W) :
    (Code.rangeFunc g #[pt] assign body).wpIn Fence.wide n Tryz.prog Q a w := by
  refine range_of (by omega) hg enters124 ?_
  intro fn
  generalize hrec : ({ state := LoopState.ready, pending := none, fn := fn, tmps := a.tmps, params := #[pt], assign := assign, body := body, defers := w.heap.size } : Loop) = rec
  have hrs : rec.state = .ready := by rw [← hrec]
  have hrq : rec.pending = none := by rw [← hrec]
  have hrf : rec.fn = fn := by rw [← hrec]
  have hrp : rec.params = #[pt] := by rw [← hrec]
  have hra : rec.assign = assign := by rw [← hrec]
  have hrb : rec.body = body := by rw [← hrec]
  have hrt : rec.tmps = a.tmps := by rw [← hrec]
  have hbl : Below w.heap.size w ((w.alloc (.deferred (some []))).alloc (.loop rec)) := bl_alloc (bl_alloc (bl0 w) _) _
  have hD : ((w.alloc (.deferred (some []))).alloc (.loop rec)).heap[w.heap.size]? = some (.deferred (some [])) := (Below.heap_alloc _ _ _ (by simp)).trans (World.alloc_heap_new w _)
  have hL : ((w.alloc (.deferred (some []))).alloc (.loop rec)).heap[w.heap.size + 1]? = some (.loop rec) := by
    have := World.alloc_heap_new (w.alloc (.deferred (some []))) (.loop rec)
    rwa [World.size_alloc] at this
  have hI0 : I 0 ((w.alloc (.deferred (some []))).alloc (.loop rec)) :=
    hI 0 _ _ none (hI 0 _ _ none h0 (World.grownBy_alloc w _ none) (fun r e => by cases e)) (World.grownBy_alloc _ _ none) (fun r e => by cases e)
  have hlt1 := hb1.lt
  have hlt2 := hb2.lt
  have hturn : ∀ (k : Nat) (W : World) (st : Loop) (st' : Loop), I k W → W.heap[w.heap.size + 1]? = some (.loop st) → I k (W.putObj (w.heap.size + 1) (.loop st')) := fun k W st st' hi hl =>
    hI k _ _ (some (w.heap.size + 1)) hi (grownBy_putObj' W _ _) (fun r e => by injection e with e; subst e; exact ⟨by omega, _, hl, rfl⟩)
  refine (chunk1_in (n - 1) (by omega) (w.heap.size + 1) b1 b2 ad q c hq hc hc2 (fun k W => I k W ∧ W.heap[w.heap.size + 1]? = some (.loop rec) ∧ W.heap[w.heap.size]? = some (.deferred (some []))) ?_ ?_ _ (hb1.keep hbl) (hb2.keep hbl) ⟨hI0, hL, hD⟩).mono ?_
  · rintro k W ⟨hi, hl, hd⟩ hk
    have hlt : w.heap.size + 1 < W.heap.size := (Array.getElem?_eq_some_iff.1 hl).1
    refine ⟨rec.fn, _, rec.assign, rec.body, run_yield hl (by rw [hrp]; rfl), roundIn_of_wpIn trivial ?_⟩
    rw [hra, hrb, hrp, hrt]
    rw [show Array.foldl (fun (t : Array Value) (x : Tmp × Value) => match x with | (p, v) => t.setIfInBounds p v) a.tmps (#[pt].zip (piece ad k)) = a.tmps.setIfInBounds pt (.slice (some (ad.add (k * 256))) 256 256) from by simp [piece]]
    refine hassign (w.heap.size + 1) k W _ ?_
    have hl2 : (W.putObj (w.heap.size + 1) (.loop { rec with state := .busy })).heap[w.heap.size + 1]? = some (.loop { rec with state := .busy }) := World.putObj_heap_same hlt
    have hd2 : (W.putObj (w.heap.size + 1) (.loop { rec with state := .busy })).heap[w.heap.size]? = some (.deferred (some [])) := (World.putObj_heap_other (by omega)).trans hd
    refine ⟨_, run_beginRound hl hrs, ?_⟩
    refine wpIn_mono (hbody (w.heap.size + 1) k _ (hturn k W _ _ hi hl) hk) ?_
    rintro e a3 W3 ⟨rfl, hkf, hkc, hi3⟩
    have hl3 := hkf.same _ _ (by omega) hl2 rfl
    have hd3 := hkf.same _ _ (Nat.le_refl _) hd2 rfl
    have hlt3 := (Array.getElem?_eq_some_iff.1 hl3).1
    have hrun := run_endRound (P := Tryz.prog) none hl3
    have hrr : ({ { rec with state := .busy } with state := (if (none : Option Code).isNone then LoopState.ready else .done), pending := none } : Loop) = rec := by rw [← hrec]; rfl
    rw [hrr] at hrun
    refine ⟨_, _, hrun, rfl, ⟨hturn _ _ _ _ hi3 hl3, World.putObj_heap_same hlt3, (World.putObj_heap_other (by omega)).trans hd3⟩, ?_⟩
    refine Kch.trans (Kch.trans (B := W.putObj (w.heap.size + 1) (.loop { rec with state := .busy })) ⟨World.putObj_heap_other (by omega), World.putObj_heap_other (by omega)⟩ hkc) ⟨World.putObj_heap_other (by omega), World.putObj_heap_other (by omega)⟩
  · rintro k W ⟨hi, hl, hd⟩
    exact ⟨hI k _ _ none hi ⟨rfl, rfl, rfl, Nat.le_refl _, fun _ _ _ => rfl⟩ (fun r e => by cases e), hl, hd⟩
  · rintro e W2 ⟨⟨v, rfl⟩, hi, hl, hd⟩
    have hrun := run_endLoop (P := Tryz.prog) hl (by rw [hrs]; simp)
    rw [hrq] at hrun
    exact ⟨none, _, hrun, hdone _ _ (Nat.le_refl _) (hturn _ _ _ _ hi hl) ((World.putObj_heap_other (by omega)).trans hd)⟩
end Go.Proofs.YtgpfognglpfmoaaGreatDoor
end
section
/- A log: find, where nothing more stands. -/
namespace Go.Proofs.YtgpfognglpfmoaaGreatDoor
set_option maxRecDepth 8192
set_option linter.unusedSimpArgs false
set_option linter.unusedVariables false
open Go.RowKit

section
variable {w w' : World} {base g E : Nat} {rs : List (UInt8 × List UInt8)} {v : Value}

/-- A log that stays what it is, but for where its row lies. -/
def Same_ (w : World) (base g E : Nat) (rs : List (UInt8 × List UInt8)) (v : Value) (w' : World) : Prop :=
  ∃ v', Lg w' base g E rs v' ∧ (v'.ownBlock = v.ownBlock ∨ ∃ k, v'.ownBlock = some k ∧ w.heap.size ≤ k) ∧ Kp (may g v) w w'

theorem endR_len (E : Nat) (rs : List (UInt8 × List UInt8)) : (endR (fstC E) rs).length = 32 := endR_length _ (fstC_length E) rs

/-- The number of records, then the chain, stored. -/
theorem lg_last {W : World} {Ei : Int} {v4 : Value} {lr n0 : Int} {S0 S : List UInt8} (hb : Bk W g (lg Ei v4 lr n0 S0)) (h0 : (cs8 S0).length = 32) (h1 : (cs8 S).length = 32) (n : Int) :
    Bk ((W.setCell ⟨g, 4, none⟩ (.int .i64 n)).setCells g 5 (cs8 S)) g (lg Ei v4 lr n S) ∧ Kp (· = g) W ((W.setCell ⟨g, 4, none⟩ (.int .i64 n)).setCells g 5 (cs8 S)) := by
  obtain ⟨h2, h3, h4, h5, h6⟩ := setCells_kept g (cs8 S) 5 (W.setCell ⟨g, 4, none⟩ (.int .i64 n))
  refine ⟨?_, (Kp.stays _).trans (Kp.of_only (Only.set W 4 (.int .i64 n))) ⟨h2, h3, h4, Nat.le_of_eq h5.symm, fun k _ hk => h6 k hk⟩⟩
  have := (hb.setCell 4 (.int .i64 n)).setCells (cs8 S) 5
  rwa [show (lg Ei v4 lr n0 S0).set 4 (.int .i64 n) = lg Ei v4 lr n S0 from rfl, lg_sets _ _ _ _ _ _ (by rwa [cs8_length] at h0) (by rwa [cs8_length] at h1)] at this
theorem recs_len2 : ∀ (C : List UInt8) (rs : List (UInt8 × List UInt8)), rs.length ≤ (recsB C rs).length
  | _, [] => Nat.zero_le _
  | C, r :: t => by
    have := recs_len2 (nextR C r.1 r.2) t
    rw [recsB, List.length_append, recB_length, List.length_cons]
    omega

set_option maxHeartbeats 1600000 in
theorem find_none (h : Lg w base g E rs v) {A : Option Addr} {n c : Nat} {t : List UInt8} (hr : Rd w w.heap.size A n c t) (hn : n ≤ 1073741824) (ht : readErr (endR (fstC E) rs) t ≠ 0) (hl : (recsB (fstC E) rs).length ≤ 1073741824) (hb : base ≤ w.heap.size) :
    Calls Tryz.prog 87 #[pt0 g, .slice A n c] w fun e w' => e = .returned (.tuple #[]) ∧ Same_ w base g E rs v w' := by
  obtain ⟨lr, hbk⟩ := h.bk
  have hS := endR_len E rs
  have HS8 := Lib.hid (show (cs8 (endR (fstC E) rs)).length = 32 by rw [cs8_length, hS])
  have HAll := Lib.hid (All_any (rs := []) w hS hr hn rfl (fun r hr => by cases hr) ht)
  have HB := Lib.hid hbk
  have HH := Lib.hid h
  have HR := Lib.hid hr
  have hlt := h.lt
  clear h hr ht hbk hS
  generalize hSS : endR (fstC E) rs = S at *
  have HSS := Lib.hid hSS
  clear hSS
  go_enter Tryz.func87, Tryz.ntmps87
  go_wp2_with (refine wpList_load_at rfl 59 _ rfl ⟨g, 5, none⟩ rfl (cs8 S) _ (HB.out.range (lg_chain _ _ _ _ _)) Tryz.underlying59 rfl (by rw [HS8.out]; exact info36) ?_)
  refine HAll.out.mono ?_
  rintro e w1 ⟨A1, n1, c1, l1, rfl, hl1, hrs, -, hb1⟩
  obtain rfl : l1 = [] := List.map_eq_nil_iff.1 hl1
  obtain rfl : n1 = 0 := hrs.1.symm
  rw [show ((recsB S []).length : Int) = 0 from rfl, show endR S [] = S from rfl]
  have hb3 : Below w.heap.size w ((w1.alloc (.cells z36.toArray 59)).setRow w1.heap.size (cs8 S).toArray) := bl_setRow (bl_alloc hb1 _) hb1.size _
  have HQ := Lib.hid ((Bk.new w1 z36 59).setRow (cs8 S))
  have HZ := Lib.hid (Bk.new w1 z36 59)
  have HG3 := Lib.hid (HB.out.keep hb3)
  have HL3 := Lib.hid (HH.out.old hb3)
  have hz1 := hb1.size
  have HB3 := Lib.hid hb3
  clear hb1 hl1 hrs HAll hb3
  go_wp2_with (first | (refine wpList_alloc_z rfl 59 rfl z36 zero36 ?_) | (refine wpList_store_bk rfl 59 _ _ rfl w1.heap.size rfl (cs8 S) z36 rfl HZ.out (by rw [HS8.out]; exact info36) (by rw [HS8.out]; exact len_z36) (cs8_all _) ?_))
  clear HZ HB
  generalize hq : w1.heap.size = q at *
  have hqg : q ≠ g := by omega
  clear hq
  generalize (w1.alloc (.cells z36.toArray 59)).setRow q (cs8 S).toArray = W3 at *
  have HW := Lib.hid (BWrite_none (w := W3.drew) (A := A) (c := c) HG3.out.drew HL3.out.row HL3.out.ne HL3.out.nil hl)
  refine wp_region_still_tail 6 (by kernel_rfl) (by kernel_rfl) ?_
  simp only [List.take_succ_cons, List.take_zero, List.drop_succ_cons, List.drop_zero]
  still_step
  still_step
  still_step
  still_step
  still_step
  still_step
  refine wpStill_nil ?_
  go_wp2_with fail
  refine HW.out.mono ?_
  rintro e W4 ⟨v4, rfl, hbk4, how4, hne4, hnil4, hv4, hk4⟩
  rw [List.append_nil] at how4 hnil4
  have hqv : ¬ may g v q := by
    rintro (e | e)
    · exact hqg e
    · have := HH.out.vlt q e
      have := HB3.out.size
      omega
  have HQ4 := Lib.hid (HQ.out.drew.kp hk4 hqv)
  have HG4 := Lib.hid hbk4
  have hnn : rs.length ≤ 1073741824 := by
    have := recs_len2 (fstC E) rs
    omega
  have HO4 := Lib.hid how4
  have HN4 := Lib.hid hne4
  have HX4 := Lib.hid hnil4
  have HK4 := Lib.hid (show Kp (may g v) w W4 from (Kp.of_old (may := may g v) HB3.out.drew).via hk4 (fun j _ h => h))
  have HV4 := Lib.hid (show v4.ownBlock = v.ownBlock ∨ ∃ k, v4.ownBlock = some k ∧ w.heap.size ≤ k from hv4.imp id fun ⟨k, e, h⟩ => ⟨k, e, by have := HB3.out.size; have : W3.drew.heap.size = W3.heap.size := rfl; omega⟩)
  clear hbk4 how4 hne4 hnil4 hv4 hk4 HW HQ HG3 HL3 HB3
  have c4 : W4.cell? ⟨g, 4, none⟩ = some (.int .i64 (rs.length : Int)) := HG4.out.cell rfl
  have f4 : W4.frozen? ⟨g, 4, none⟩ = false := HG4.out.frozen 4
  have HG5 := Lib.hid (HG4.out.setCell 4 (.int .i64 (rs.length : Int)))
  have HQ5 := Lib.hid (HQ4.out.setCell_ne hqg 4 (.int .i64 (rs.length : Int)))
  have hth : (W4.setCell ⟨g, 4, none⟩ (.int .i64 (rs.length : Int))).there g 5 (cs8 S).toArray.size := by
    rw [List.size_toArray, HS8.out]
    refine HG5.out.there ?_
    simp [lg, HS8.out]
  have HTH := Lib.hid hth
  clear hth
  go_wp2_with (first | (refine wpList_load_at rfl 59 _ rfl ⟨q, 0, none⟩ rfl (cs8 S) _ HQ5.out.at_ Tryz.underlying59 rfl (by rw [HS8.out]; exact info36) ?_) | (refine wpList_store_mid rfl 59 _ _ rfl g 5 (cs8 S).toArray rfl rfl HTH.out (by rw [List.size_toArray, HS8.out]; exact info36) (cs8_all _) ?_))
  go_end0
  obtain ⟨r1, r2⟩ := lg_last HG4.out HS8.out HS8.out (rs.length : Int)
  refine ⟨rfl, v4, ⟨⟨0, by rw [HSS.out]; exact r1⟩, HO4.out.kpF r2 (fun k e e2 => HN4.out (by rw [e, e2])), HN4.out, HX4.out, HH.out.hg⟩, HV4.out, (Kp.stays _).trans HK4.out (r2.mono (fun k e => .inl e))⟩
end
end Go.Proofs.YtgpfognglpfmoaaGreatDoor
end
