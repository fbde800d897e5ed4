/- DiskScript: whatever is called, a disk does what the document says, crashes, too. -/
import Derived.Test.YtphifbhgocjhcaaCl
import Derived.Test.YtphifbhgocjhcaaRi
namespace Go.Proofs.Ytphifbhgocjhcaa
set_option linter.unusedSimpArgs false
set_option linter.unusedVariables false
open Go.RowKit Go.Maps

theorem rnew_one (w : World) (k : Nat) (h : k < 40) : Calls Try.prog 20 #[.int .i64 (1 + (k : Int))] w fun e w' => ∃ p b q, e = .returned (.tuple #[ptr p, .int .i64 0]) ∧ Rk w' w.heap.size p b q (zs ((1 + k) * 256)) (noC (1 + k)) ∧ Below w.heap.size w w' := by
  have := rnew_ok w (1 + k) (by omega) (by omega)
  rw [show ((1 + k : Nat) : Int) = 1 + (k : Int) by omega] at this
  exact this
/-- The document's Write, be it what it may. -/
theorem rwrite_any {w : World} {lo p g q : Nat} {S : List UInt8 × Ca} (h : Rk w lo p g q S.1 S.2) (k at_ : Int) (b : UInt8) (long : Bool) (keep : List Bool) {top c : Nat} {A : Option Addr} (hr : Rd w top A (bytesOf ⟨k, at_, b, long, keep⟩).length c (bytesOf ⟨k, at_, b, long, keep⟩)) (ht : top ≤ w.heap.size) (hlo : lo ≤ w.heap.size) :
    Calls Try.prog 26 #[ptr p, .int .i64 at_, .slice A (bytesOf ⟨k, at_, b, long, keep⟩).length c] w fun e w' => e = .returned (.int .i64 (wrE at_ long S)) ∧ Rk w' lo p g q (wrS at_ b long S).1 (wrS at_ b long S).2 ∧ Kp (fun k => k = g ∨ k = q) w w' := by
  unfold wrE wrS
  by_cases hc : 0 ≤ at_ ∧ at_ < S.2.length ∧ long = false
  · simp only [if_pos hc]
    obtain ⟨h0, h1, rfl⟩ := hc
    rw [len_false, by_false] at hr
    rw [len_false]
    have := rwrite_ok h at_.toNat (by omega) hr ht hlo
    rw [Int.toNat_of_nonneg h0] at this
    exact this
  · simp only [if_neg hc]
    refine (rwrite_bad h at_ (fun hq => hc ⟨hq.1, hq.2.1, ?_⟩)).mono fun e w' ⟨a, b⟩ => ⟨a, by rw [b]; exact h, by rw [b]; exact Kp.refl _ _⟩
    cases long
    · rfl
    · rw [len_true] at hq
      omega

theorem box_act2 (w : World) (x : Av) : ∀ j v, x.cells[j]? = some v → (w.alloc (.cells #[.int .i64 x.a.kind, .int .i64 x.a.at_, .int .u8 (x.a.b.toNat : Int), .bool x.a.long, .slice x.K x.a.keep.length x.kc] 46)).cell? ⟨w.heap.size, j, none⟩ = some v := by
  intro j v hv
  rw [cell_of_row _ w.heap.size j _ 46 (0, 0) (heap_alloc_new w _)]
  simpa [Av.cells] using hv
theorem wp_appb {w : World} {o : Oper} {a : Act} {K : Act → World → Prop} {Q : Exit → Act → World → Prop} (s x : Operand)
    (ho : o.op = .call { callee := .builtin .append, args := #[s, x], argTypes := #[44, 44] }) (hs : a.eval s = .slice (some ⟨w.heap.size, 0, none⟩) 0 0) {top n c : Nat} {A : Option Addr} {l : List Bool} (hx : a.eval x = .slice A n c)
    (hr : Bi w top A n c l) (ht : top ≤ w.heap.size) (hn : n ≤ 4294967296)
    (h : ∀ A' c' w', Bi w' w'.heap.size A' n c' l → Below w.heap.size w w' → w.heap.size < w'.heap.size → K (a.put o.dst (.slice A' n c')) w') : o.wp Try.prog a (w.alloc (.cells #[] 4)) K Q := by
  obtain ⟨A', c', w', hrun, h1, h2, h3⟩ := run_appb hr ht hn o.type
  unfold Oper.wp execOp
  simp only [ho, resolve, invoke, builtin, Sem.run_bind, Sem.run_pure, Result.andThen_ok, List.map_toArray, List.map_cons, List.map_nil, hs, hx, hrun]
  exact h A' c' w' h1 h2 h3
theorem kp_appb {w w' : World} {may : Nat → Prop} {X : Obj} (h : Below w.heap.size w w') (hm : ∀ k, w.heap.size ≤ k → may k) (hs0 : w.heap.size < w'.heap.size) : Kp may (w.alloc X).drew w' := by
  refine ⟨h.os, h.tape, h.output, by show (w.alloc X).heap.size ≤ _; rw [size_alloc_one]; exact hs0, fun k hk hn => ?_⟩
  have hlt : k < w.heap.size := by
    rcases Nat.lt_or_ge k w.heap.size with h1 | h1
    · exact h1
    · exact absurd (hm k h1) hn
  exact (h.block k hlt).trans (Below.heap_alloc w X k hlt).symm

set_option maxRecDepth 100000 in
set_option maxHeartbeats 1000000 in
theorem DiskScript_walk (n : Int) (A1 : Option Addr) (n1 c1 : Nat) (l1 : List Av) (w : World) (_hn : -9223372036854775808 ≤ n) (_hn2 : n ≤ 9223372036854775807) (h1 : Ai w w.heap.size A1 n1 c1 l1) :
    Calls Try.prog 4 #[.int .i64 n, .slice A1 n1 c1] w fun e w' => e = .returned (.bool true) ∧ Below w.heap.size w w' := by
  have HA1 := Lib.hid h1
  clear h1 _hn _hn2
  go_enter Try.func4, Try.ntmps4
  go_wp2_with fail
  refine (lives_any _).mono ?_
  rintro e w1 ⟨rfl, hb⟩
  have HB := Lib.hid hb
  clear hb
  have HS1 := Lib.hid (small_any w1 (HA1.out.below HB.out))
  by_cases hf1 : few l1
  rotate_left
  · rw [show decide (few l1) = false from decide_eq_false hf1] at HS1
    clear hf1
    go_wp2_with fail
    refine HS1.out.mono ?_
    rintro e w2 ⟨rfl, rfl⟩
    go_wp2
    go_ret
    exact ⟨rfl, HB.out⟩
  rw [show decide (few l1) = true from decide_eq_true hf1] at HS1
  have HF1 := Lib.hid hf1
  have hn1 : n1 ≤ 80 := by have := hf1.1; have := HA1.out.1; omega
  clear hf1
  go_wp2_with fail
  refine HS1.out.mono ?_
  rintro e w2 ⟨rfl, rfl⟩
  go_wp2_with fail
  have hlt := pickN_lt n 40 (by omega)
  refine (pick_any _ n 40 (by omega) (by omega)).mono ?_
  rintro e w2 ⟨rfl, rfl⟩
  generalize pickN n 40 = k at hlt
  have hk40 : k < 40 := by omega
  have HNw := Lib.hid (new_one w2 k hk40)
  clear HS1 hlt
  go_wp2_with fail
  refine HNw.out.mono ?_
  rintro e w3 ⟨p, s, m, rfl, hd, hh, hb⟩
  have hs1 := HB.out.size
  have HH : Hid (Hi w.heap.size p s m) := Lib.hid (by unfold Hi at *; omega)
  have HNr := Lib.hid (rnew_one w3 k hk40)
  have HD0 := Lib.hid hd
  have HB := Lib.hid (bl_call HB.out hb)
  clear hd hh hb hs1 HNw
  go_wp2_with fail
  refine HNr.out.mono ?_
  rintro e w4 ⟨r, g, q, rfl, hr, hb⟩
  obtain ⟨S0, hS0⟩ : ∃ S0 : List UInt8 × Ca, S0 = (zs ((1 + k) * 256), noC (1 + k)) := ⟨_, rfl⟩
  obtain ⟨lo, hlo⟩ : ∃ lo, lo = w3.heap.size := ⟨_, rfl⟩
  have HL0 : Hid (S0.2.length = 1 + k) := Lib.hid (by rw [hS0]; simp [noC])
  have HLO : Hid ((p < lo ∧ s < lo ∧ m < lo) ∧ w.heap.size ≤ lo) := Lib.hid ⟨⟨by rw [hlo]; exact HD0.out.plt, by rw [hlo]; exact HD0.out.slt, by rw [hlo]; exact HD0.out.mlt⟩, by rw [hlo]; exact HB.out.size⟩
  have HD : Hid (Dk w4 p s m S0.1 S0.2) := Lib.hid (by rw [hS0]; exact HD0.out.old hb)
  have HE : Hid (Rk w4 lo r g q S0.1 S0.2) := Lib.hid (by rw [hS0, hlo]; exact hr)
  have HT : Hid (lo ≤ w4.heap.size) := Lib.hid (by rw [hlo]; exact hb.size)
  have HB := Lib.hid (bl_call HB.out hb)
  clear hr hb hS0 hlo HNr HD0
  go_wp2_with fail
  go_loopw [9] (fun v wr => ∃ i : Nat, i ≤ n1 ∧ v = .int .i64 (i : Int) ∧ Hid (Dk wr p s m (runL (l1.take i) S0).1 (runL (l1.take i) S0).2) ∧ Hid (Rk wr lo r g q (runL (l1.take i) S0).1 (runL (l1.take i) S0).2) ∧ Hid (Below w.heap.size w wr) ∧ Hid (lo ≤ wr.heap.size)) (fun v _ => n1 - (RowKit.intOf v).toNat)
  case atStart => exact ⟨0, by omega, rfl, Lib.hid HD.out, Lib.hid HE.out, HB, HT⟩
  case round =>
    clear HB HT HD HE
    obtain ⟨i, hi, rfl, HD, HE, HB, HT⟩ := hrel
    by_cases hlt : i < n1
    · obtain ⟨ad, x, rfl, hx, hm, ho, e0, e1, e2, e3, e4⟩ := (HA1.out.below HB.out).at_ hlt
      have HS := Lib.hid (runL_step l1 S0 hx)
      go_wp2_with fail
      refine (pick_any _ x.a.kind 5 (by omega) (by omega)).mono ?_
      rintro e u0 ⟨rfl, hu0⟩
      have hb0 : Below wr.heap.size wr u0 := by rw [hu0]; exact bl_alloc (bl0 wr) _
      have hX : ∀ j v, x.cells[j]? = some v → u0.cell? ⟨wr.heap.size, j, none⟩ = some v := fun j v hv => by rw [hu0]; exact box_act2 wr x j v hv
      have hlt0 : wr.heap.size < u0.heap.size := by rw [hu0]; simp
      have HD0 := Lib.hid (HD.out.old hb0)
      have HE0 := Lib.hid (HE.out.old hb0)
      have HB0 := Lib.hid (bl_call HB.out hb0)
      have HT0 := Lib.hid (Nat.le_trans HT.out hb0.size)
      have HKw : Hid (Bi u0 w.heap.size x.K x.a.keep.length x.kc x.a.keep) := Lib.hid (Bi.below ho (hb0.mono HB.out.size))
      have HKd : Hid (Bi u0.drew w.heap.size x.K x.a.keep.length x.kc x.a.keep) := Lib.hid (HKw.out.below ((Below.refl _ u0).drew))
      have HKt : Hid (w.heap.size ≤ u0.drew.heap.size) := Lib.hid HB0.out.size
      have HKl := Lib.hid (HF1.out.2 x hm)
      have hnm : ∀ k, (k = s ∨ k = m ∨ k = g ∨ k = q ∨ u0.heap.size ≤ k) → k ≠ wr.heap.size := fun k hk => by
        have h1 := HD.out.slt
        have h2 := HD.out.mlt
        have h3 := HE.out.blt
        have h4 := HE.out.qlt
        omega
      have HQ0 := Lib.hid (fun W (hW : Kp (fun k => k = s ∨ k = m ∨ k = g ∨ k = q ∨ u0.heap.size ≤ k) u0 W) => (hW.cell (p := ⟨wr.heap.size, 0, none⟩) hlt0 (fun e => hnm _ e rfl)).trans (hX 0 _ rfl))
      have HQ1 := Lib.hid (fun W (hW : Kp (fun k => k = s ∨ k = m ∨ k = g ∨ k = q ∨ u0.heap.size ≤ k) u0 W) => (hW.cell (p := ⟨wr.heap.size, 1, none⟩) hlt0 (fun e => hnm _ e rfl)).trans (hX 1 _ rfl))
      have HQ2 := Lib.hid (fun W (hW : Kp (fun k => k = s ∨ k = m ∨ k = g ∨ k = q ∨ u0.heap.size ≤ k) u0 W) => (hW.cell (p := ⟨wr.heap.size, 2, none⟩) hlt0 (fun e => hnm _ e rfl)).trans (hX 2 _ rfl))
      have HQ3 := Lib.hid (fun W (hW : Kp (fun k => k = s ∨ k = m ∨ k = g ∨ k = q ∨ u0.heap.size ≤ k) u0 W) => (hW.cell (p := ⟨wr.heap.size, 3, none⟩) hlt0 (fun e => hnm _ e rfl)).trans (hX 3 _ rfl))
      have HQ4 := Lib.hid (fun W (hW : Kp (fun k => k = s ∨ k = m ∨ k = g ∨ k = q ∨ u0.heap.size ≤ k) u0 W) => (hW.cell (p := ⟨wr.heap.size, 4, none⟩) hlt0 (fun e => hnm _ e rfl)).trans (hX 4 _ rfl))
      have q1 := hX 1 _ rfl
      have q4 := hX 4 _ rfl
      have HBy : Hid (∀ W : World, Calls Try.prog 25 #[.agg #[.int .i64 x.a.kind, .int .i64 x.a.at_, .int .u8 (x.a.b.toNat : Int), .bool x.a.long, .slice x.K x.a.keep.length x.kc]] W fun e w' => ∃ A' c', e = .returned (.slice A' (bytesOf ⟨x.a.kind, x.a.at_, x.a.b, x.a.long, x.a.keep⟩).length c') ∧ Rd w' w'.heap.size A' (bytesOf ⟨x.a.kind, x.a.at_, x.a.b, x.a.long, x.a.keep⟩).length c' (bytesOf ⟨x.a.kind, x.a.at_, x.a.b, x.a.long, x.a.keep⟩) ∧ Below W.heap.size W w') := Lib.hid (fun W => bytes_any W ⟨x.a.kind, x.a.at_, x.a.b, x.a.long, x.a.keep⟩ x.K x.kc)
      have HIL : Hid ((idx 0 (runL (l1.take (i + 1)) S0).2).length ≤ 16384) := Lib.hid (by have := idx_len (runL (l1.take (i + 1)) S0).2 0; rw [runL_len] at this; have := HL0.out; omega)
      have HEq : Hid (doA ⟨x.a.kind, x.a.at_, x.a.b, x.a.long, x.a.keep⟩ (runL (l1.take i) S0) = if pickN x.a.kind 5 = 0 then runL (l1.take i) S0 else if pickN x.a.kind 5 = 3 then (settle (runL (l1.take i) S0).2 (idx 0 (runL (l1.take i) S0).2) (runL (l1.take i) S0).1, noC (runL (l1.take i) S0).2.length) else if pickN x.a.kind 5 = 4 then (settle (runL (l1.take i) S0).2 (chosen (idx 0 (runL (l1.take i) S0).2) x.a.keep) (runL (l1.take i) S0).1, noC (runL (l1.take i) S0).2.length)
        else wrS x.a.at_ x.a.b x.a.long (runL (l1.take i) S0)) := Lib.hid rfl
      have hpl := pickN_lt x.a.kind 5 (by omega)
      generalize hnn : pickN x.a.kind 5 = nn at *
      clear hnn hu0 hb0 hX hnm hx hm ho e0 e1 e2 e3 e4 HD HE HB HT
      rcases (show nn = 0 ∨ nn = 3 ∨ nn = 4 ∨ (nn = 1 ∨ nn = 2) by omega) with rfl | rfl | rfl | h12
      · by_cases hir : 0 ≤ x.a.at_ ∧ x.a.at_ < (runL (l1.take i) S0).2.length
        · have HRd := Lib.hid (read_ok HD0.out x.a.at_.toNat (by omega))
          rw [Int.toNat_of_nonneg hir.1] at HRd
          have HRr : Hid (∀ W, Below u0.heap.size u0 W → _) := Lib.hid (fun W hW => rread_ok (HE0.out.old hW) x.a.at_.toNat (by omega))
          rw [Int.toNat_of_nonneg hir.1] at HRr
          clear hir
          go_wp2_with fail
          refine HRd.out.mono ?_
          rintro e u1 ⟨rfl, hr1, hb1⟩
          have HR1 := Lib.hid hr1
          have HB1 := Lib.hid hb1
          clear hr1 hb1 q4
          have q1 := HQ1.out u1 (Kp.old HB1.out)
          go_wp2_with fail
          refine (HRr.out u1 HB1.out).mono ?_
          rintro e u2 ⟨A2, c2, rfl, hr2, hb2⟩
          have hs1 := run_str (HR1.out.below hb2)
          have hs2 := run_str hr2
          have HB2 := Lib.hid (bl_call HB1.out hb2)
          have HX1 : Hid (Dk u2 p s m (runL (l1.take (i + 1)) S0).1 (runL (l1.take (i + 1)) S0).2) := Lib.hid (by rw [HS.out, HEq.out]; exact HD0.out.old HB2.out)
          have HY1 : Hid (Rk u2 lo r g q (runL (l1.take (i + 1)) S0).1 (runL (l1.take (i + 1)) S0).2) := Lib.hid (by rw [HS.out, HEq.out]; exact HE0.out.old HB2.out)
          have HZ1 : Hid (Below w.heap.size w u2) := Lib.hid (bl_call HB0.out HB2.out)
          have HT1 : Hid (lo ≤ u2.heap.size) := Lib.hid (Nat.le_trans HT0.out HB2.out.size)

          clear hr2 hb2 q1 HR1 HRd HRr
          go_wp2_with fail
          refine (cached_any HX1.out).mono ?_
          rintro e v1 ⟨A8, c8, rfl, hn8, hb8⟩
          have HB8 := Lib.hid hb8
          have HN8 := Lib.hid hn8
          clear hn8 hb8
          go_wp2_with fail
          refine (rcached_any (HY1.out.old HB8.out)).mono ?_
          rintro e v2 ⟨vv, rfl, ho9, hb9⟩
          obtain ⟨A9, c9, rfl, hn9⟩ := ho9.ni
          have HB9 := Lib.hid hb9
          have HN9 := Lib.hid hn9
          clear hn9 hb9 ho9
          go_wp2_with fail
          refine (ints_eq (HN8.out.bel HB9.out) HN9.out HIL.out).mono ?_
          rintro e v3 ⟨rfl, hb7⟩
          have HB7 := Lib.hid (bl_call (bl_call HB8.out HB9.out) hb7)
          clear hb7
          go_wp2
          go_roundw
          case rel => exact ⟨i + 1, by omega, by go_num, Lib.hid (HX1.out.old HB7.out), Lib.hid (HY1.out.old HB7.out), Lib.hid (bl_call HZ1.out HB7.out), Lib.hid (Nat.le_trans HT1.out HB7.out.size)⟩
          case measure => simp [RowKit.intOf]; omega

        · have HRd := Lib.hid (read_bad HD0.out x.a.at_ hir)
          have HRr := Lib.hid (rread_bad HE0.out x.a.at_ hir)
          clear hir
          have hs1 := run_str (Rd.nil u0 0 0 none)
          go_wp2_with fail
          refine HRd.out.mono ?_
          rintro e u1 ⟨rfl, rfl⟩
          go_wp2_with fail
          refine HRr.out.mono ?_
          rintro e u2 ⟨rfl, rfl⟩
          have HX1 : Hid (Dk u2 p s m (runL (l1.take (i + 1)) S0).1 (runL (l1.take (i + 1)) S0).2) := Lib.hid (by rw [HS.out, HEq.out]; exact HD0.out)
          have HY1 : Hid (Rk u2 lo r g q (runL (l1.take (i + 1)) S0).1 (runL (l1.take (i + 1)) S0).2) := Lib.hid (by rw [HS.out, HEq.out]; exact HE0.out)
          have HZ1 : Hid (Below w.heap.size w u2) := Lib.hid (HB0.out)
          have HT1 : Hid (lo ≤ u2.heap.size) := Lib.hid (HT0.out)

          clear q1 q4 HRd HRr
          go_wp2_with fail
          refine (cached_any HX1.out).mono ?_
          rintro e v1 ⟨A8, c8, rfl, hn8, hb8⟩
          have HB8 := Lib.hid hb8
          have HN8 := Lib.hid hn8
          clear hn8 hb8
          go_wp2_with fail
          refine (rcached_any (HY1.out.old HB8.out)).mono ?_
          rintro e v2 ⟨vv, rfl, ho9, hb9⟩
          obtain ⟨A9, c9, rfl, hn9⟩ := ho9.ni
          have HB9 := Lib.hid hb9
          have HN9 := Lib.hid hn9
          clear hn9 hb9 ho9
          go_wp2_with fail
          refine (ints_eq (HN8.out.bel HB9.out) HN9.out HIL.out).mono ?_
          rintro e v3 ⟨rfl, hb7⟩
          have HB7 := Lib.hid (bl_call (bl_call HB8.out HB9.out) hb7)
          clear hb7
          go_wp2
          go_roundw
          case rel => exact ⟨i + 1, by omega, by go_num, Lib.hid (HX1.out.old HB7.out), Lib.hid (HY1.out.old HB7.out), Lib.hid (bl_call HZ1.out HB7.out), Lib.hid (Nat.le_trans HT1.out HB7.out.size)⟩
          case measure => simp [RowKit.intOf]; omega

      · go_wp2_with fail
        refine (flush_any HD0.out).mono ?_
        rintro e u1 ⟨rfl, hd1, hk1⟩
        have HD1 := Lib.hid hd1
        have HK1 := Lib.hid hk1
        have HE1 := Lib.hid (HE0.out.kp hk1 (fun k hk => by have := HLO.out; omega))
        clear hd1 hk1 q1 q4
        go_wp2_with fail
        refine (rflush_any HE1.out).mono ?_
        rintro e u2 ⟨rfl, he2, hk2⟩
        have HB2 : Hid (Below w.heap.size w u2) := Lib.hid ((HB0.out.trans (HK1.out.below HB0.out.size (fun k hk => by have := HH.out; unfold Hi at this; omega))).trans (hk2.below (Nat.le_trans HB0.out.size HK1.out.size) (fun k hk => by have := HE0.out.lb; have := HE0.out.lq; have := HLO.out; omega)))
        have hs1 := run_str (Rd.nil u2 0 0 none)
        have HX1 : Hid (Dk u2 p s m (runL (l1.take (i + 1)) S0).1 (runL (l1.take (i + 1)) S0).2) := Lib.hid (by rw [HS.out, HEq.out]; exact HD1.out.kp hk2 (by have := HE0.out.lb; have := HE0.out.lq; have := HLO.out; omega) (by have := HE0.out.lb; have := HE0.out.lq; have := HLO.out; omega) (by have := HE0.out.lb; have := HE0.out.lq; have := HLO.out; omega))
        have HY1 : Hid (Rk u2 lo r g q (runL (l1.take (i + 1)) S0).1 (runL (l1.take (i + 1)) S0).2) := Lib.hid (by rw [HS.out, HEq.out]; exact he2)
        have HZ1 : Hid (Below w.heap.size w u2) := Lib.hid (HB2.out)
        have HT1 : Hid (lo ≤ u2.heap.size) := Lib.hid (Nat.le_trans HT0.out (Nat.le_trans HK1.out.size hk2.size))

        clear he2 hk2
        go_wp2_with fail
        refine (cached_any HX1.out).mono ?_
        rintro e v1 ⟨A8, c8, rfl, hn8, hb8⟩
        have HB8 := Lib.hid hb8
        have HN8 := Lib.hid hn8
        clear hn8 hb8
        go_wp2_with fail
        refine (rcached_any (HY1.out.old HB8.out)).mono ?_
        rintro e v2 ⟨vv, rfl, ho9, hb9⟩
        obtain ⟨A9, c9, rfl, hn9⟩ := ho9.ni
        have HB9 := Lib.hid hb9
        have HN9 := Lib.hid hn9
        clear hn9 hb9 ho9
        go_wp2_with fail
        refine (ints_eq (HN8.out.bel HB9.out) HN9.out HIL.out).mono ?_
        rintro e v3 ⟨rfl, hb7⟩
        have HB7 := Lib.hid (bl_call (bl_call HB8.out HB9.out) hb7)
        clear hb7
        go_wp2
        go_roundw
        case rel => exact ⟨i + 1, by omega, by go_num, Lib.hid (HX1.out.old HB7.out), Lib.hid (HY1.out.old HB7.out), Lib.hid (bl_call HZ1.out HB7.out), Lib.hid (Nat.le_trans HT1.out HB7.out.size)⟩
        case measure => simp [RowKit.intOf]; omega

      · go_wp2_with fail
        clear q1 q4
        have hR := Kp.stays (fun k => k = s ∨ k = m ∨ k = g ∨ k = q ∨ u0.heap.size ≤ k)
        refine reg_start (Kp (fun k => k = s ∨ k = m ∨ k = g ∨ k = q ∨ u0.heap.size ≤ k)) follows_mixed ?_
      -- region 23 of f4: 12 operations, draws: true
        refine reg_take (v := ?_) hR 0 rfl (by kernel_rfl) (by kernel_rfl) (by kernel_rfl) (fun _ _ _ h => h) (by rfl) ?_ ?_
        rotate_left
        · intro W hW; go_simp; try with_reducible rfl
        try simp only [Act.put, List.getElem_toArray, List.getElem_cons_succ, List.getElem_cons_zero, List.setIfInBounds_toArray, List.set_cons_zero, List.set_cons_succ]
        refine reg_take (v := ?_) hR 2 rfl (by kernel_rfl) (by kernel_rfl) (by kernel_rfl) (fun _ _ _ h => h) (by rfl) ?_ ?_
        rotate_left
        · intro W hW; go_simp; try with_reducible rfl
        try simp only [Act.put, List.getElem_toArray, List.getElem_cons_succ, List.getElem_cons_zero, List.setIfInBounds_toArray, List.set_cons_zero, List.set_cons_succ]
        refine reg_take (v := .slice x.K x.a.keep.length x.kc) hR 3 rfl (by kernel_rfl) (by kernel_rfl) (by kernel_rfl) (fun _ _ _ h => h) (by rfl) ?_ ?_
        · intro W hW; have q4 := HQ4.out W hW.undrew; go_simp
        try simp only [Act.put, List.getElem_toArray, List.getElem_cons_succ, List.getElem_cons_zero, List.setIfInBounds_toArray, List.set_cons_zero, List.set_cons_succ]
        refine reg_take (v := ?_) hR 6 rfl (by kernel_rfl) (by kernel_rfl) (by kernel_rfl) (fun _ _ _ h => h) (by rfl) ?_ ?_
        rotate_left
        · intro W hW; go_simp; try with_reducible rfl
        try simp only [Act.put, List.getElem_toArray, List.getElem_cons_succ, List.getElem_cons_zero, List.setIfInBounds_toArray, List.set_cons_zero, List.set_cons_succ]
        refine reg_take (v := ?_) hR 7 rfl (by kernel_rfl) (by kernel_rfl) (by kernel_rfl) (fun _ _ _ h => h) (by rfl) ?_ ?_
        rotate_left
        · intro W hW; go_simp; try with_reducible rfl
        try simp only [Act.put, List.getElem_toArray, List.getElem_cons_succ, List.getElem_cons_zero, List.setIfInBounds_toArray, List.set_cons_zero, List.set_cons_succ]
        refine reg_take (v := .slice x.K x.a.keep.length x.kc) hR 8 rfl (by kernel_rfl) (by kernel_rfl) (by kernel_rfl) (fun _ _ _ h => h) (by rfl) ?_ ?_
        · intro W hW; have q4 := HQ4.out W hW.undrew; go_simp
        try simp only [Act.put, List.getElem_toArray, List.getElem_cons_succ, List.getElem_cons_zero, List.setIfInBounds_toArray, List.set_cons_zero, List.set_cons_succ]
        -- STEP 1: Op.buildSlice 44 0 #[]
        refine reg_step hR 1 (by kernel_rfl) rfl fun K hK => ?_
        try simp only [Act.put, List.getElem_toArray, List.getElem_cons_succ, List.getElem_cons_zero, List.setIfInBounds_toArray, List.set_cons_zero, List.set_cons_succ]
        go_simp
  
        refine hK.out _ _ ?_ ?_
        · exact Kp.of_old (bl_alloc (bl0 _) _)
        clear hK K
        try simp only [Act.put, List.getElem_toArray, List.getElem_cons_succ, List.getElem_cons_zero, List.setIfInBounds_toArray, List.set_cons_zero, List.set_cons_succ]
        -- STEP 4: Op.call { callee := Callee.builtin Builtin.append, args := #[t92, t94], argTypes := #[44, 44] }
        refine reg_step hR 4 (by kernel_rfl) rfl fun K hK => ?_
        try simp only [Act.put, List.getElem_toArray, List.getElem_cons_succ, List.getElem_cons_zero, List.setIfInBounds_toArray, List.set_cons_zero, List.set_cons_succ]
        rw [if_pos (by rfl)]
        change Oper.wp _ _ _ (u0.drew.alloc (.cells #[] 4)) _ _
        refine wp_appb _ _ rfl rfl rfl HKd.out HKt.out (by have := HKl.out; omega) ?_
        intro A3 c3 u3 hk3 hb3 hz3
        have HK3 := Lib.hid hk3; have HB3 := Lib.hid (undrewN hb3); have HZ3 : Hid (u0.heap.size < u3.heap.size) := Lib.hid hz3; clear hk3 hb3 hz3
        refine hK.out _ _ ?_ ?_
        · exact kp_appb HB3.out (fun k hk => Or.inr (Or.inr (Or.inr (Or.inr hk)))) HZ3.out
        clear hK K
        try simp only [Act.put, List.getElem_toArray, List.getElem_cons_succ, List.getElem_cons_zero, List.setIfInBounds_toArray, List.set_cons_zero, List.set_cons_succ]
        -- STEP 5: Op.call { callee := Callee.value (Operand.func 23), args := #[t91, t95], argTypes := #[22, 44] }
        refine reg_step hR 5 (by kernel_rfl) rfl fun K hK => ?_
        try simp only [Act.put, List.getElem_toArray, List.getElem_cons_succ, List.getElem_cons_zero, List.setIfInBounds_toArray, List.set_cons_zero, List.set_cons_succ]
        go_simp
        refine (crash_any (HD0.out.old HB3.out) HK3.out (Nat.le_refl _) (by have := HKl.out; omega)).mono ?_; rintro e u4 ⟨rfl, hd4, hk4⟩
        have HD4 := Lib.hid hd4; have HK4 := Lib.hid hk4; clear hd4 hk4
        refine hK.out _ _ ?_ ?_
        · exact HK4.out.mono (fun k hk => by rcases hk with h | h; exact .inl h; exact .inr (.inl h))
        clear hK K
        try simp only [Act.put, List.getElem_toArray, List.getElem_cons_succ, List.getElem_cons_zero, List.setIfInBounds_toArray, List.set_cons_zero, List.set_cons_succ]
        -- STEP 9: Op.call { callee := Callee.value (Operand.func 24), args := #[t97, t99], argTypes := #[41, 44] }
        refine reg_step hR 9 (by kernel_rfl) rfl fun K hK => ?_
        try simp only [Act.put, List.getElem_toArray, List.getElem_cons_succ, List.getElem_cons_zero, List.setIfInBounds_toArray, List.set_cons_zero, List.set_cons_succ]
        go_simp
        refine (rcrash_any ((HE0.out.old HB3.out).kp HK4.out (fun k hk => by have := HLO.out; omega)) ((HKw.out.below (HB3.out.mono HKt.out)).below (HK4.out.below (Nat.le_trans HKt.out HB3.out.size) (fun k hk => by have := HH.out; unfold Hi at this; omega))) HLO.out.2 (by have := HKl.out; omega)).mono ?_; rintro e u6 ⟨rfl, he6, hk6⟩
        have HE6 := Lib.hid he6; have HK6 := Lib.hid hk6; clear he6 hk6
        refine hK.out _ _ ?_ ?_
        · exact HK6.out.mono (fun k hk => by rcases hk with h | h; exact .inr (.inr (.inl h)); exact .inr (.inr (.inr (.inl h))))
        clear hK K
        try simp only [Act.put, List.getElem_toArray, List.getElem_cons_succ, List.getElem_cons_zero, List.setIfInBounds_toArray, List.set_cons_zero, List.set_cons_succ]
        refine reg_take (v := ?_) hR 10 rfl (by kernel_rfl) (by kernel_rfl) (by kernel_rfl) (fun _ _ _ h => h) (by rfl) ?_ ?_
        rotate_left
        · intro W hW; go_simp; try with_reducible rfl
        try simp only [Act.put, List.getElem_toArray, List.getElem_cons_succ, List.getElem_cons_zero, List.setIfInBounds_toArray, List.set_cons_zero, List.set_cons_succ]
        refine reg_take (v := ?_) hR 11 rfl (by kernel_rfl) (by kernel_rfl) (by kernel_rfl) (fun _ _ _ h => h) (by rfl) ?_ ?_
        rotate_left
        · intro W hW; go_simp; try with_reducible rfl
        try simp only [Act.put, List.getElem_toArray, List.getElem_cons_succ, List.getElem_cons_zero, List.setIfInBounds_toArray, List.set_cons_zero, List.set_cons_succ]
        refine reg_done (by kernel_rfl) ?_ _

        have HB2 : Hid (Below w.heap.size w u6) := Lib.hid (((bl_call HB0.out HB3.out).trans (HK4.out.below (Nat.le_trans HB0.out.size HB3.out.size) (fun k hk => by have := HH.out; unfold Hi at this; omega))).trans (HK6.out.below (Nat.le_trans HB0.out.size (Nat.le_trans HB3.out.size HK4.out.size)) (fun k hk => by have := HE0.out.lb; have := HE0.out.lq; have := HLO.out; omega)))
        have hs1 := run_str (Rd.nil u6 0 0 none)
        have HX1 : Hid (Dk u6 p s m (runL (l1.take (i + 1)) S0).1 (runL (l1.take (i + 1)) S0).2) := Lib.hid (by rw [HS.out, HEq.out]; exact HD4.out.kp HK6.out (by have := HE0.out.lb; have := HE0.out.lq; have := HLO.out; omega) (by have := HE0.out.lb; have := HE0.out.lq; have := HLO.out; omega) (by have := HE0.out.lb; have := HE0.out.lq; have := HLO.out; omega))
        have HY1 : Hid (Rk u6 lo r g q (runL (l1.take (i + 1)) S0).1 (runL (l1.take (i + 1)) S0).2) := Lib.hid (by rw [HS.out, HEq.out]; exact HE6.out)
        have HZ1 : Hid (Below w.heap.size w u6) := Lib.hid (HB2.out)
        have HT1 : Hid (lo ≤ u6.heap.size) := Lib.hid (Nat.le_trans HT0.out (Nat.le_trans HB3.out.size (Nat.le_trans HK4.out.size HK6.out.size)))

        go_wp2_with fail
        refine (cached_any HX1.out).mono ?_
        rintro e v1 ⟨A8, c8, rfl, hn8, hb8⟩
        have HB8 := Lib.hid hb8
        have HN8 := Lib.hid hn8
        clear hn8 hb8
        go_wp2_with fail
        refine (rcached_any (HY1.out.old HB8.out)).mono ?_
        rintro e v2 ⟨vv, rfl, ho9, hb9⟩
        obtain ⟨A9, c9, rfl, hn9⟩ := ho9.ni
        have HB9 := Lib.hid hb9
        have HN9 := Lib.hid hn9
        clear hn9 hb9 ho9
        go_wp2_with fail
        refine (ints_eq (HN8.out.bel HB9.out) HN9.out HIL.out).mono ?_
        rintro e v3 ⟨rfl, hb7⟩
        have HB7 := Lib.hid (bl_call (bl_call HB8.out HB9.out) hb7)
        clear hb7
        go_wp2
        go_roundw
        case rel => exact ⟨i + 1, by omega, by go_num, Lib.hid (HX1.out.old HB7.out), Lib.hid (HY1.out.old HB7.out), Lib.hid (bl_call HZ1.out HB7.out), Lib.hid (Nat.le_trans HT1.out HB7.out.size)⟩
        case measure => simp [RowKit.intOf]; omega

      · have z0 : ¬ ((nn : Int) = 0) := by omega
        have z3 : ¬ ((nn : Int) = 3) := by omega
        have z4 : ¬ ((nn : Int) = 4) := by omega
        rw [if_neg (show ¬ nn = 0 by omega), if_neg (show ¬ nn = 3 by omega), if_neg (show ¬ nn = 4 by omega)] at HEq
        clear h12 hpl
        go_wp2_with fail
        clear q1 q4
        have hR := Kp.stays (fun k => k = s ∨ k = m ∨ k = g ∨ k = q ∨ u0.heap.size ≤ k)
        refine reg_start (Kp (fun k => k = s ∨ k = m ∨ k = g ∨ k = q ∨ u0.heap.size ≤ k)) follows_mixed ?_
      -- region 16 of f4: 14 operations, draws: true
        refine reg_take (v := ?_) hR 0 rfl (by kernel_rfl) (by kernel_rfl) (by kernel_rfl) (fun _ _ _ h => h) (by rfl) ?_ ?_
        rotate_left
        · intro W hW; go_simp; try with_reducible rfl
        try simp only [Act.put, List.getElem_toArray, List.getElem_cons_succ, List.getElem_cons_zero, List.setIfInBounds_toArray, List.set_cons_zero, List.set_cons_succ]
        refine reg_take (v := ?_) hR 1 rfl (by kernel_rfl) (by kernel_rfl) (by kernel_rfl) (fun _ _ _ h => h) (by rfl) ?_ ?_
        rotate_left
        · intro W hW; go_simp; try with_reducible rfl
        try simp only [Act.put, List.getElem_toArray, List.getElem_cons_succ, List.getElem_cons_zero, List.setIfInBounds_toArray, List.set_cons_zero, List.set_cons_succ]
        refine reg_take (v := .int .i64 x.a.at_) hR 2 rfl (by kernel_rfl) (by kernel_rfl) (by kernel_rfl) (fun _ _ _ h => h) (by rfl) ?_ ?_
        · intro W hW; have q1 := HQ1.out W hW.undrew; go_simp
        try simp only [Act.put, List.getElem_toArray, List.getElem_cons_succ, List.getElem_cons_zero, List.setIfInBounds_toArray, List.set_cons_zero, List.set_cons_succ]
        refine reg_take (v := .agg #[.int .i64 x.a.kind, .int .i64 x.a.at_, .int .u8 (x.a.b.toNat : Int), .bool x.a.long, .slice x.K x.a.keep.length x.kc]) hR 3 rfl (by kernel_rfl) (by kernel_rfl) (by kernel_rfl) (fun _ _ _ h => h) (by rfl) ?_ ?_
        · intro W hW; have q0 := HQ0.out W hW.undrew; have q1 := HQ1.out W hW.undrew; have q2 := HQ2.out W hW.undrew; have q3 := HQ3.out W hW.undrew; have q4 := HQ4.out W hW.undrew; go_simp
        try simp only [Act.put, List.getElem_toArray, List.getElem_cons_succ, List.getElem_cons_zero, List.setIfInBounds_toArray, List.set_cons_zero, List.set_cons_succ]
        refine reg_take (v := ?_) hR 6 rfl (by kernel_rfl) (by kernel_rfl) (by kernel_rfl) (fun _ _ _ h => h) (by rfl) ?_ ?_
        rotate_left
        · intro W hW; go_simp; try with_reducible rfl
        try simp only [Act.put, List.getElem_toArray, List.getElem_cons_succ, List.getElem_cons_zero, List.setIfInBounds_toArray, List.set_cons_zero, List.set_cons_succ]
        refine reg_take (v := ?_) hR 7 rfl (by kernel_rfl) (by kernel_rfl) (by kernel_rfl) (fun _ _ _ h => h) (by rfl) ?_ ?_
        rotate_left
        · intro W hW; go_simp; try with_reducible rfl
        try simp only [Act.put, List.getElem_toArray, List.getElem_cons_succ, List.getElem_cons_zero, List.setIfInBounds_toArray, List.set_cons_zero, List.set_cons_succ]
        refine reg_take (v := .int .i64 x.a.at_) hR 8 rfl (by kernel_rfl) (by kernel_rfl) (by kernel_rfl) (fun _ _ _ h => h) (by rfl) ?_ ?_
        · intro W hW; have q1 := HQ1.out W hW.undrew; go_simp
        try simp only [Act.put, List.getElem_toArray, List.getElem_cons_succ, List.getElem_cons_zero, List.setIfInBounds_toArray, List.set_cons_zero, List.set_cons_succ]
        refine reg_take (v := .agg #[.int .i64 x.a.kind, .int .i64 x.a.at_, .int .u8 (x.a.b.toNat : Int), .bool x.a.long, .slice x.K x.a.keep.length x.kc]) hR 9 rfl (by kernel_rfl) (by kernel_rfl) (by kernel_rfl) (fun _ _ _ h => h) (by rfl) ?_ ?_
        · intro W hW; have q0 := HQ0.out W hW.undrew; have q1 := HQ1.out W hW.undrew; have q2 := HQ2.out W hW.undrew; have q3 := HQ3.out W hW.undrew; have q4 := HQ4.out W hW.undrew; go_simp
        try simp only [Act.put, List.getElem_toArray, List.getElem_cons_succ, List.getElem_cons_zero, List.setIfInBounds_toArray, List.set_cons_zero, List.set_cons_succ]
        -- STEP 4: Op.call { callee := Callee.value (Operand.func 25), args := #[t58], argTypes := #[46] }
        refine reg_step hR 4 (by kernel_rfl) rfl fun K hK => ?_
        try simp only [Act.put, List.getElem_toArray, List.getElem_cons_succ, List.getElem_cons_zero, List.setIfInBounds_toArray, List.set_cons_zero, List.set_cons_succ]
        go_simp
        refine (HBy.out _).mono ?_; rintro e u3 ⟨A3, c3, rfl, hr3, hb3⟩
        have HB3 := Lib.hid (undrewN hb3); have HR3 := Lib.hid hr3; clear hr3 hb3
        refine hK.out _ _ ?_ ?_
        · exact Kp.old (redrewN HB3.out)
        clear hK K
        try simp only [Act.put, List.getElem_toArray, List.getElem_cons_succ, List.getElem_cons_zero, List.setIfInBounds_toArray, List.set_cons_zero, List.set_cons_succ]
        -- STEP 5: Op.call { callee := Callee.value (Operand.func 12), args := #[t55, t57, t59], argTypes := #[22, 3, 27] }
        refine reg_step hR 5 (by kernel_rfl) rfl fun K hK => ?_
        try simp only [Act.put, List.getElem_toArray, List.getElem_cons_succ, List.getElem_cons_zero, List.setIfInBounds_toArray, List.set_cons_zero, List.set_cons_succ]
        go_simp
        refine (write_any (S := runL (l1.take i) S0) (HD0.out.old HB3.out) x.a.kind x.a.at_ x.a.b x.a.long x.a.keep HR3.out).mono ?_; rintro e u4 ⟨rfl, hd4, hk4⟩
        have HD4 := Lib.hid hd4; have HK4 := Lib.hid hk4; clear hd4 hk4
        refine hK.out _ _ ?_ ?_
        · exact HK4.out.mono (fun k hk => by rcases hk with h | h; exact .inl h; exact .inr (.inl h))
        clear hK K
        try simp only [Act.put, List.getElem_toArray, List.getElem_cons_succ, List.getElem_cons_zero, List.setIfInBounds_toArray, List.set_cons_zero, List.set_cons_succ]
        -- STEP 10: Op.call { callee := Callee.value (Operand.func 25), args := #[t64], argTypes := #[46] }
        refine reg_step hR 10 (by kernel_rfl) rfl fun K hK => ?_
        try simp only [Act.put, List.getElem_toArray, List.getElem_cons_succ, List.getElem_cons_zero, List.setIfInBounds_toArray, List.set_cons_zero, List.set_cons_succ]
        go_simp
        refine (HBy.out _).mono ?_; rintro e u5 ⟨A5, c5, rfl, hr5, hb5⟩
        have HB5 := Lib.hid hb5; have HR5 := Lib.hid hr5; clear hr5 hb5
        refine hK.out _ _ ?_ ?_
        · exact Kp.old HB5.out
        clear hK K
        try simp only [Act.put, List.getElem_toArray, List.getElem_cons_succ, List.getElem_cons_zero, List.setIfInBounds_toArray, List.set_cons_zero, List.set_cons_succ]
        -- STEP 11: Op.call { callee := Callee.value (Operand.func 26), args := #[t61, t63, t65], argTypes := #[41, 3, 27] }
        refine reg_step hR 11 (by kernel_rfl) rfl fun K hK => ?_
        try simp only [Act.put, List.getElem_toArray, List.getElem_cons_succ, List.getElem_cons_zero, List.setIfInBounds_toArray, List.set_cons_zero, List.set_cons_succ]
        go_simp
        refine (rwrite_any (S := runL (l1.take i) S0) (((HE0.out.old HB3.out).kp HK4.out (fun k hk => by have := HLO.out; omega)).old HB5.out) x.a.kind x.a.at_ x.a.b x.a.long x.a.keep HR5.out (Nat.le_refl _) (Nat.le_trans HT0.out (Nat.le_trans HB3.out.size (Nat.le_trans HK4.out.size HB5.out.size)))).mono ?_; rintro e u6 ⟨rfl, he6, hk6⟩
        have HE6 := Lib.hid he6; have HK6 := Lib.hid hk6; clear he6 hk6
        refine hK.out _ _ ?_ ?_
        · exact HK6.out.mono (fun k hk => by rcases hk with h | h; exact .inr (.inr (.inl h)); exact .inr (.inr (.inr (.inl h))))
        clear hK K
        try simp only [Act.put, List.getElem_toArray, List.getElem_cons_succ, List.getElem_cons_zero, List.setIfInBounds_toArray, List.set_cons_zero, List.set_cons_succ]
        refine reg_take (v := ?_) hR 12 rfl (by kernel_rfl) (by kernel_rfl) (by kernel_rfl) (fun _ _ _ h => h) (by rfl) ?_ ?_
        rotate_left
        · intro W hW; go_simp; try with_reducible rfl
        try simp only [Act.put, List.getElem_toArray, List.getElem_cons_succ, List.getElem_cons_zero, List.setIfInBounds_toArray, List.set_cons_zero, List.set_cons_succ]
        refine reg_take (v := ?_) hR 13 rfl (by kernel_rfl) (by kernel_rfl) (by kernel_rfl) (fun _ _ _ h => h) (by rfl) ?_ ?_
        rotate_left
        · intro W hW; go_simp; try with_reducible rfl
        try simp only [Act.put, List.getElem_toArray, List.getElem_cons_succ, List.getElem_cons_zero, List.setIfInBounds_toArray, List.set_cons_zero, List.set_cons_succ]
        refine reg_done (by kernel_rfl) ?_ _

        have HB2 : Hid (Below w.heap.size w u6) := Lib.hid ((bl_call ((bl_call HB0.out HB3.out).trans (HK4.out.below (Nat.le_trans HB0.out.size HB3.out.size) (fun k hk => by have := HH.out; unfold Hi at this; omega))) HB5.out).trans (HK6.out.below (Nat.le_trans HB0.out.size (Nat.le_trans HB3.out.size (Nat.le_trans HK4.out.size HB5.out.size))) (fun k hk => by have := HE0.out.lb; have := HE0.out.lq; have := HLO.out; omega)))
        have hs1 := run_str (Rd.nil u6 0 0 none)
        have HX1 : Hid (Dk u6 p s m (runL (l1.take (i + 1)) S0).1 (runL (l1.take (i + 1)) S0).2) := Lib.hid (by rw [HS.out, HEq.out]; exact (HD4.out.old HB5.out).kp HK6.out (by have := HE0.out.lb; have := HE0.out.lq; have := HLO.out; omega) (by have := HE0.out.lb; have := HE0.out.lq; have := HLO.out; omega) (by have := HE0.out.lb; have := HE0.out.lq; have := HLO.out; omega))
        have HY1 : Hid (Rk u6 lo r g q (runL (l1.take (i + 1)) S0).1 (runL (l1.take (i + 1)) S0).2) := Lib.hid (by rw [HS.out, HEq.out]; exact HE6.out)
        have HZ1 : Hid (Below w.heap.size w u6) := Lib.hid (HB2.out)
        have HT1 : Hid (lo ≤ u6.heap.size) := Lib.hid (Nat.le_trans HT0.out (Nat.le_trans HB3.out.size (Nat.le_trans HK4.out.size (Nat.le_trans HB5.out.size HK6.out.size))))

        go_wp2_with fail
        refine (cached_any HX1.out).mono ?_
        rintro e v1 ⟨A8, c8, rfl, hn8, hb8⟩
        have HB8 := Lib.hid hb8
        have HN8 := Lib.hid hn8
        clear hn8 hb8
        go_wp2_with fail
        refine (rcached_any (HY1.out.old HB8.out)).mono ?_
        rintro e v2 ⟨vv, rfl, ho9, hb9⟩
        obtain ⟨A9, c9, rfl, hn9⟩ := ho9.ni
        have HB9 := Lib.hid hb9
        have HN9 := Lib.hid hn9
        clear hn9 hb9 ho9
        go_wp2_with fail
        refine (ints_eq (HN8.out.bel HB9.out) HN9.out HIL.out).mono ?_
        rintro e v3 ⟨rfl, hb7⟩
        have HB7 := Lib.hid (bl_call (bl_call HB8.out HB9.out) hb7)
        clear hb7
        go_wp2
        go_roundw
        case rel => exact ⟨i + 1, by omega, by go_num, Lib.hid (HX1.out.old HB7.out), Lib.hid (HY1.out.old HB7.out), Lib.hid (bl_call HZ1.out HB7.out), Lib.hid (Nat.le_trans HT1.out HB7.out.size)⟩
        case measure => simp [RowKit.intOf]; omega


    · obtain rfl : n1 = i := by omega
      rw [List.take_of_length_le (show l1.length ≤ n1 by have := HA1.out.1; omega)] at HD HE
      have hT : (runL l1 S0).2.length = 1 + k := by rw [runL_len]; exact HL0.out
      have hBl : (runL l1 S0).1.length = (1 + k) * 256 := by have := HD.out.hB; omega
      have HBl := Lib.hid hBl
      have HSz : Hid (∀ W, Dk W p s m (runL l1 S0).1 (runL l1 S0).2 → Calls Try.prog 15 #[ptr p] W fun e w' => e = .returned (.int .i64 (1 + (k : Int))) ∧ w' = W) := Lib.hid (fun W hW => by
        have := size_any hW
        rw [hT, show ((1 + k : Nat) : Int) = 1 + (k : Int) by omega] at this
        exact this)
      clear hlt hT hBl
      go_wp2_with fail
      refine (image_any HD.out).mono ?_
      rintro e w5 ⟨v5, rfl, ho5, hb5⟩
      obtain ⟨A5', c5', rfl, hr5⟩ := ho5.rdN (n := (1 + k) * 256) HBl.out
      have HR5' := Lib.hid hr5
      have HD := Lib.hid (HD.out.old hb5)
      have HE := Lib.hid (HE.out.old hb5)
      have HB := Lib.hid (bl_call HB.out hb5)
      clear ho5 hr5 hb5
      go_wp2_with fail
      refine (of_ok _ (1 + k) HR5'.out (Nat.le_refl _) (by omega) (by omega)).mono ?_
      rintro e w6 ⟨p2, s2, m2, rfl, ho, hh6, hb6⟩
      have HO := Lib.hid ho
      have HCh : Hid (∀ W, Dk W p2 s2 m2 (runL l1 S0).1 (noC (1 + k)) → Calls Try.prog 13 #[ptr p2] W fun e w' => ∃ A c, e = .returned (.slice A 0 c) ∧ Below W.heap.size W w') := Lib.hid (fun W hW => by
        have := cached_any hW
        rw [idx_noC] at this
        exact this.mono fun e w' ⟨A, c, h1, _, h2⟩ => ⟨A, c, h1, h2⟩)
      have HD := Lib.hid (HD.out.old hb6)
      have HE := Lib.hid (HE.out.old hb6)
      have HB := Lib.hid (bl_call HB.out hb6)
      have HC0 := Lib.hid HE.out.c.1
      have HRl := Lib.hid HE.out.plt
      clear ho hh6 hb6 HR5'
      go_wp2_with fail
      have hR := Old.stays
      refine reg_start Old follows_mixed ?_
    -- region 27 of f4: 37 operations, draws: true
      refine reg_take (v := ?_) hR 0 rfl (by kernel_rfl) (by kernel_rfl) (by kernel_rfl) (fun _ _ _ h => h) (by rfl) ?_ ?_
      rotate_left
      · intro W hW; go_simp; try with_reducible rfl
      try simp only [Act.put, List.getElem_toArray, List.getElem_cons_succ, List.getElem_cons_zero, List.setIfInBounds_toArray, List.set_cons_zero, List.set_cons_succ]
      refine reg_take (v := ?_) hR 1 rfl (by kernel_rfl) (by kernel_rfl) (by kernel_rfl) (fun _ _ _ h => h) (by rfl) ?_ ?_
      rotate_left
      · intro W hW; go_simp; try with_reducible rfl
      try simp only [Act.put, List.getElem_toArray, List.getElem_cons_succ, List.getElem_cons_zero, List.setIfInBounds_toArray, List.set_cons_zero, List.set_cons_succ]
      refine reg_take (v := ?_) hR 2 rfl (by kernel_rfl) (by kernel_rfl) (by kernel_rfl) (fun _ _ _ h => h) (by rfl) ?_ ?_
      rotate_left
      · intro W hW; go_simp; try with_reducible rfl
      try simp only [Act.put, List.getElem_toArray, List.getElem_cons_succ, List.getElem_cons_zero, List.setIfInBounds_toArray, List.set_cons_zero, List.set_cons_succ]
      refine reg_take (v := ?_) hR 3 rfl (by kernel_rfl) (by kernel_rfl) (by kernel_rfl) (fun _ _ _ h => h) (by rfl) ?_ ?_
      rotate_left
      · intro W hW; go_simp; try with_reducible rfl
      try simp only [Act.put, List.getElem_toArray, List.getElem_cons_succ, List.getElem_cons_zero, List.setIfInBounds_toArray, List.set_cons_zero, List.set_cons_succ]
      refine reg_take (v := ?_) hR 6 rfl (by kernel_rfl) (by kernel_rfl) (by kernel_rfl) (fun _ _ _ h => h) (by rfl) ?_ ?_
      rotate_left
      · intro W hW; go_simp; try with_reducible rfl
      try simp only [Act.put, List.getElem_toArray, List.getElem_cons_succ, List.getElem_cons_zero, List.setIfInBounds_toArray, List.set_cons_zero, List.set_cons_succ]
      refine reg_take (v := ?_) hR 7 rfl (by kernel_rfl) (by kernel_rfl) (by kernel_rfl) (fun _ _ _ h => h) (by rfl) ?_ ?_
      rotate_left
      · intro W hW; go_simp; try with_reducible rfl
      try simp only [Act.put, List.getElem_toArray, List.getElem_cons_succ, List.getElem_cons_zero, List.setIfInBounds_toArray, List.set_cons_zero, List.set_cons_succ]
      refine reg_take (v := ?_) hR 8 rfl (by kernel_rfl) (by kernel_rfl) (by kernel_rfl) (fun _ _ _ h => h) (by rfl) ?_ ?_
      rotate_left
      · intro W hW; go_simp; try with_reducible rfl
      try simp only [Act.put, List.getElem_toArray, List.getElem_cons_succ, List.getElem_cons_zero, List.setIfInBounds_toArray, List.set_cons_zero, List.set_cons_succ]
      refine reg_take (v := .slice (some ⟨g, 0, none⟩) (runL l1 S0).1.length (runL l1 S0).1.length) hR 9 rfl (by kernel_rfl) (by kernel_rfl) (by kernel_rfl) (fun _ _ _ h => h) (by rfl) ?_ ?_
      · intro W hW; have c0 := (hW.cell (p := ⟨r, 0, none⟩) HRl.out).trans HC0.out; go_simp
      try simp only [Act.put, List.getElem_toArray, List.getElem_cons_succ, List.getElem_cons_zero, List.setIfInBounds_toArray, List.set_cons_zero, List.set_cons_succ]
      refine reg_take (v := .string (str (runL l1 S0).1)) hR 10 rfl (by kernel_rfl) (by kernel_rfl) (by kernel_rfl) (fun _ _ _ h => h) (by rfl) ?_ ?_
      · intro W hW; have := run_str (HE.out.hb.rd.below (undrewN hW)); go_simp
      try simp only [Act.put, List.getElem_toArray, List.getElem_cons_succ, List.getElem_cons_zero, List.setIfInBounds_toArray, List.set_cons_zero, List.set_cons_succ]
      -- STEP 4: Op.call { callee := Callee.value (Operand.func 29), args := #[t128], argTypes := #[22] }
      refine reg_step hR 4 (by kernel_rfl) rfl fun K hK => ?_
      try simp only [Act.put, List.getElem_toArray, List.getElem_cons_succ, List.getElem_cons_zero, List.setIfInBounds_toArray, List.set_cons_zero, List.set_cons_succ]
      go_simp
      refine (image_any HD.out.drew).mono ?_; rintro e u1 ⟨v1, rfl, ho1, hb1⟩
      obtain ⟨A3, c3, rfl, hr3⟩ := ho1.rd
      have HU1 := Lib.hid (undrewN hb1); have HR3 := Lib.hid hr3; clear hb1 ho1 hr3
      refine hK.out _ _ ?_ ?_
      · exact redrewN HU1.out
      clear hK K
      try simp only [Act.put, List.getElem_toArray, List.getElem_cons_succ, List.getElem_cons_zero, List.setIfInBounds_toArray, List.set_cons_zero, List.set_cons_succ]
      refine reg_take (v := .string (str (runL l1 S0).1)) hR 5 rfl (by kernel_rfl) (by kernel_rfl) (by kernel_rfl) (fun _ _ _ h => h) (by rfl) ?_ ?_
      · intro W hW; have := run_str (HR3.out.below hW); go_simp
      try simp only [Act.put, List.getElem_toArray, List.getElem_cons_succ, List.getElem_cons_zero, List.setIfInBounds_toArray, List.set_cons_zero, List.set_cons_succ]
      refine reg_take (v := .bool true) hR 11 rfl (by kernel_rfl) (by kernel_rfl) (by kernel_rfl) (fun _ _ _ h => h) (by rfl) ?_ ?_
      · intro W hW; go_simp
      try simp only [Act.put, List.getElem_toArray, List.getElem_cons_succ, List.getElem_cons_zero, List.setIfInBounds_toArray, List.set_cons_zero, List.set_cons_succ]
      refine reg_take (v := ?_) hR 12 rfl (by kernel_rfl) (by kernel_rfl) (by kernel_rfl) (fun _ _ _ h => h) (by rfl) ?_ ?_
      rotate_left
      · intro W hW; go_simp; try with_reducible rfl
      try simp only [Act.put, List.getElem_toArray, List.getElem_cons_succ, List.getElem_cons_zero, List.setIfInBounds_toArray, List.set_cons_zero, List.set_cons_succ]
      refine reg_take (v := ?_) hR 13 rfl (by kernel_rfl) (by kernel_rfl) (by kernel_rfl) (fun _ _ _ h => h) (by rfl) ?_ ?_
      rotate_left
      · intro W hW; go_simp; try with_reducible rfl
      try simp only [Act.put, List.getElem_toArray, List.getElem_cons_succ, List.getElem_cons_zero, List.setIfInBounds_toArray, List.set_cons_zero, List.set_cons_succ]
      refine reg_take (v := ?_) hR 14 rfl (by kernel_rfl) (by kernel_rfl) (by kernel_rfl) (fun _ _ _ h => h) (by rfl) ?_ ?_
      rotate_left
      · intro W hW; go_simp; try with_reducible rfl
      try simp only [Act.put, List.getElem_toArray, List.getElem_cons_succ, List.getElem_cons_zero, List.setIfInBounds_toArray, List.set_cons_zero, List.set_cons_succ]
      refine reg_take (v := ?_) hR 16 rfl (by kernel_rfl) (by kernel_rfl) (by kernel_rfl) (fun _ _ _ h => h) (by rfl) ?_ ?_
      rotate_left
      · intro W hW; go_simp; try with_reducible rfl
      try simp only [Act.put, List.getElem_toArray, List.getElem_cons_succ, List.getElem_cons_zero, List.setIfInBounds_toArray, List.set_cons_zero, List.set_cons_succ]
      -- STEP 15: Op.call { callee := Callee.value (Operand.func 15), args := #[t139], argTypes := #[22] }
      refine reg_step hR 15 (by kernel_rfl) rfl fun K hK => ?_
      try simp only [Act.put, List.getElem_toArray, List.getElem_cons_succ, List.getElem_cons_zero, List.setIfInBounds_toArray, List.set_cons_zero, List.set_cons_succ]
      go_simp
      refine (HSz.out _ (HD.out.old HU1.out)).mono ?_; rintro e u3 ⟨rfl, rfl⟩
      refine hK.out _ _ ?_ ?_
      · exact hR.refl _
      clear hK K
      try simp only [Act.put, List.getElem_toArray, List.getElem_cons_succ, List.getElem_cons_zero, List.setIfInBounds_toArray, List.set_cons_zero, List.set_cons_succ]
      refine reg_take (v := .bool true) hR 17 rfl (by kernel_rfl) (by kernel_rfl) (by kernel_rfl) (fun _ _ _ h => h) (by rfl) ?_ ?_
      · intro W hW; go_simp
      try simp only [Act.put, List.getElem_toArray, List.getElem_cons_succ, List.getElem_cons_zero, List.setIfInBounds_toArray, List.set_cons_zero, List.set_cons_succ]
      refine reg_take (v := ?_) hR 18 rfl (by kernel_rfl) (by kernel_rfl) (by kernel_rfl) (fun _ _ _ h => h) (by rfl) ?_ ?_
      rotate_left
      · intro W hW; go_simp; try with_reducible rfl
      try simp only [Act.put, List.getElem_toArray, List.getElem_cons_succ, List.getElem_cons_zero, List.setIfInBounds_toArray, List.set_cons_zero, List.set_cons_succ]
      refine reg_take (v := ?_) hR 19 rfl (by kernel_rfl) (by kernel_rfl) (by kernel_rfl) (fun _ _ _ h => h) (by rfl) ?_ ?_
      rotate_left
      · intro W hW; go_simp; try with_reducible rfl
      try simp only [Act.put, List.getElem_toArray, List.getElem_cons_succ, List.getElem_cons_zero, List.setIfInBounds_toArray, List.set_cons_zero, List.set_cons_succ]
      refine reg_take (v := ?_) hR 20 rfl (by kernel_rfl) (by kernel_rfl) (by kernel_rfl) (fun _ _ _ h => h) (by rfl) ?_ ?_
      rotate_left
      · intro W hW; go_simp; try with_reducible rfl
      try simp only [Act.put, List.getElem_toArray, List.getElem_cons_succ, List.getElem_cons_zero, List.setIfInBounds_toArray, List.set_cons_zero, List.set_cons_succ]
      refine reg_take (v := ?_) hR 23 rfl (by kernel_rfl) (by kernel_rfl) (by kernel_rfl) (fun _ _ _ h => h) (by rfl) ?_ ?_
      rotate_left
      · intro W hW; go_simp; try with_reducible rfl
      try simp only [Act.put, List.getElem_toArray, List.getElem_cons_succ, List.getElem_cons_zero, List.setIfInBounds_toArray, List.set_cons_zero, List.set_cons_succ]
      refine reg_take (v := ?_) hR 24 rfl (by kernel_rfl) (by kernel_rfl) (by kernel_rfl) (fun _ _ _ h => h) (by rfl) ?_ ?_
      rotate_left
      · intro W hW; go_simp; try with_reducible rfl
      try simp only [Act.put, List.getElem_toArray, List.getElem_cons_succ, List.getElem_cons_zero, List.setIfInBounds_toArray, List.set_cons_zero, List.set_cons_succ]
      refine reg_take (v := ?_) hR 25 rfl (by kernel_rfl) (by kernel_rfl) (by kernel_rfl) (fun _ _ _ h => h) (by rfl) ?_ ?_
      rotate_left
      · intro W hW; go_simp; try with_reducible rfl
      try simp only [Act.put, List.getElem_toArray, List.getElem_cons_succ, List.getElem_cons_zero, List.setIfInBounds_toArray, List.set_cons_zero, List.set_cons_succ]
      refine reg_take (v := .slice (some ⟨g, 0, none⟩) (runL l1 S0).1.length (runL l1 S0).1.length) hR 26 rfl (by kernel_rfl) (by kernel_rfl) (by kernel_rfl) (fun _ _ _ h => h) (by rfl) ?_ ?_
      · intro W hW; have c0 := (hW.cell (p := ⟨r, 0, none⟩) (Nat.lt_of_lt_of_le HRl.out HU1.out.size)).trans ((HU1.out.cell HRl.out).trans HC0.out); go_simp
      try simp only [Act.put, List.getElem_toArray, List.getElem_cons_succ, List.getElem_cons_zero, List.setIfInBounds_toArray, List.set_cons_zero, List.set_cons_succ]
      refine reg_take (v := .string (str (runL l1 S0).1)) hR 27 rfl (by kernel_rfl) (by kernel_rfl) (by kernel_rfl) (fun _ _ _ h => h) (by rfl) ?_ ?_
      · intro W hW; have := run_str (HE.out.hb.rd.below (bl_call HU1.out hW)); go_simp
      try simp only [Act.put, List.getElem_toArray, List.getElem_cons_succ, List.getElem_cons_zero, List.setIfInBounds_toArray, List.set_cons_zero, List.set_cons_succ]
      -- STEP 21: Op.call { callee := Callee.value (Operand.func 29), args := #[t145], argTypes := #[22] }
      refine reg_step hR 21 (by kernel_rfl) rfl fun K hK => ?_
      try simp only [Act.put, List.getElem_toArray, List.getElem_cons_succ, List.getElem_cons_zero, List.setIfInBounds_toArray, List.set_cons_zero, List.set_cons_succ]
      go_simp
      refine (image_any (HO.out.old HU1.out)).mono ?_; rintro e u4 ⟨v4, rfl, ho4, hb4⟩
      obtain ⟨A5, c5, rfl, hr5⟩ := ho4.rd
      have HU4 := Lib.hid hb4; have HR5 := Lib.hid hr5; clear hb4 ho4 hr5
      refine hK.out _ _ ?_ ?_
      · exact HU4.out
      clear hK K
      try simp only [Act.put, List.getElem_toArray, List.getElem_cons_succ, List.getElem_cons_zero, List.setIfInBounds_toArray, List.set_cons_zero, List.set_cons_succ]
      refine reg_take (v := .string (str (runL l1 S0).1)) hR 22 rfl (by kernel_rfl) (by kernel_rfl) (by kernel_rfl) (fun _ _ _ h => h) (by rfl) ?_ ?_
      · intro W hW; have := run_str (HR5.out.below hW); go_simp
      try simp only [Act.put, List.getElem_toArray, List.getElem_cons_succ, List.getElem_cons_zero, List.setIfInBounds_toArray, List.set_cons_zero, List.set_cons_succ]
      refine reg_take (v := .bool true) hR 28 rfl (by kernel_rfl) (by kernel_rfl) (by kernel_rfl) (fun _ _ _ h => h) (by rfl) ?_ ?_
      · intro W hW; go_simp
      try simp only [Act.put, List.getElem_toArray, List.getElem_cons_succ, List.getElem_cons_zero, List.setIfInBounds_toArray, List.set_cons_zero, List.set_cons_succ]
      refine reg_take (v := ?_) hR 29 rfl (by kernel_rfl) (by kernel_rfl) (by kernel_rfl) (fun _ _ _ h => h) (by rfl) ?_ ?_
      rotate_left
      · intro W hW; go_simp; try with_reducible rfl
      try simp only [Act.put, List.getElem_toArray, List.getElem_cons_succ, List.getElem_cons_zero, List.setIfInBounds_toArray, List.set_cons_zero, List.set_cons_succ]
      refine reg_take (v := ?_) hR 30 rfl (by kernel_rfl) (by kernel_rfl) (by kernel_rfl) (fun _ _ _ h => h) (by rfl) ?_ ?_
      rotate_left
      · intro W hW; go_simp; try with_reducible rfl
      try simp only [Act.put, List.getElem_toArray, List.getElem_cons_succ, List.getElem_cons_zero, List.setIfInBounds_toArray, List.set_cons_zero, List.set_cons_succ]
      refine reg_take (v := ?_) hR 31 rfl (by kernel_rfl) (by kernel_rfl) (by kernel_rfl) (fun _ _ _ h => h) (by rfl) ?_ ?_
      rotate_left
      · intro W hW; go_simp; try with_reducible rfl
      try simp only [Act.put, List.getElem_toArray, List.getElem_cons_succ, List.getElem_cons_zero, List.setIfInBounds_toArray, List.set_cons_zero, List.set_cons_succ]
      -- STEP 32: Op.call { callee := Callee.value (Operand.func 13), args := #[t156], argTypes := #[22] }
      refine reg_step hR 32 (by kernel_rfl) rfl fun K hK => ?_
      try simp only [Act.put, List.getElem_toArray, List.getElem_cons_succ, List.getElem_cons_zero, List.setIfInBounds_toArray, List.set_cons_zero, List.set_cons_succ]
      go_simp
      refine (HCh.out _ (HO.out.old (bl_call HU1.out HU4.out))).mono ?_; rintro e u6 ⟨A7, c7, rfl, hb6⟩
      have HU6 := Lib.hid hb6; clear hb6
      refine hK.out _ _ ?_ ?_
      · exact HU6.out
      clear hK K
      try simp only [Act.put, List.getElem_toArray, List.getElem_cons_succ, List.getElem_cons_zero, List.setIfInBounds_toArray, List.set_cons_zero, List.set_cons_succ]
      refine reg_take (v := ?_) hR 33 rfl (by kernel_rfl) (by kernel_rfl) (by kernel_rfl) (fun _ _ _ h => h) (by rfl) ?_ ?_
      rotate_left
      · intro W hW; go_simp; try with_reducible rfl
      try simp only [Act.put, List.getElem_toArray, List.getElem_cons_succ, List.getElem_cons_zero, List.setIfInBounds_toArray, List.set_cons_zero, List.set_cons_succ]
      refine reg_take (v := ?_) hR 34 rfl (by kernel_rfl) (by kernel_rfl) (by kernel_rfl) (fun _ _ _ h => h) (by rfl) ?_ ?_
      rotate_left
      · intro W hW; go_simp; try with_reducible rfl
      try simp only [Act.put, List.getElem_toArray, List.getElem_cons_succ, List.getElem_cons_zero, List.setIfInBounds_toArray, List.set_cons_zero, List.set_cons_succ]
      refine reg_take (v := ?_) hR 35 rfl (by kernel_rfl) (by kernel_rfl) (by kernel_rfl) (fun _ _ _ h => h) (by rfl) ?_ ?_
      rotate_left
      · intro W hW; go_simp; try with_reducible rfl
      try simp only [Act.put, List.getElem_toArray, List.getElem_cons_succ, List.getElem_cons_zero, List.setIfInBounds_toArray, List.set_cons_zero, List.set_cons_succ]
      refine reg_take (v := ?_) hR 36 rfl (by kernel_rfl) (by kernel_rfl) (by kernel_rfl) (fun _ _ _ h => h) (by rfl) ?_ ?_
      rotate_left
      · intro W hW; go_simp; try with_reducible rfl
      try simp only [Act.put, List.getElem_toArray, List.getElem_cons_succ, List.getElem_cons_zero, List.setIfInBounds_toArray, List.set_cons_zero, List.set_cons_succ]
      refine reg_done (by kernel_rfl) ?_ _

      go_wp2
      go_ret
      exact ⟨rfl, bl_call (bl_call (bl_call HB.out HU1.out) HU4.out) HU6.out⟩
end Go.Proofs.Ytphifbhgocjhcaa
