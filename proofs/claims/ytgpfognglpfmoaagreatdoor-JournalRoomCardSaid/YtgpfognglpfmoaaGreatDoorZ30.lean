/- A journal: Switch of a journal; the chapter's examples. -/
import Derived.Test.YtgpfognglpfmoaaGreatDoorZ29
set_option linter.unusedSimpArgs false
set_option linter.unusedVariables false
namespace Go.Proofs.YtgpfognglpfmoaaGreatDoor
set_option maxRecDepth 8192
set_option linter.unusedSimpArgs false
set_option linter.unusedVariables false
open Go.RowKit Go.Maps

theorem Switch_j {w : World} {J p s m L area E syn : Nat} {v : Value} {rs : List (UInt8 × List UInt8)} {B : List UInt8} {C : Ca} (h : Jd w J p s m L v area E rs syn B C) {A : Option Addr} {n c : Nat} {l : List Rv} (hr : Rs w w.heap.size A n c l) (hn : n ≤ 1048576) (hv : Vrs (l.map Rv.r))
    (hE : E ≤ 4294967294) (hf : (recsB (fstC (E + 1)) (l.map Rv.r)).length ≤ area * 256) :
    Calls Tryz.prog 13 #[pt0 J, .slice A n c] w fun e w' => ∃ L' v', e = .returned (.int .i64 0) ∧ Jd w' J p s m L' v' area (E + 1) (l.map Rv.r) (l.map Rv.r).length (begB B C (E + 1) area (l.map Rv.r)) (noC C.length) ∧
      Stp (jF J p s m L v) (jF J p s m L' v') w w' := by
  obtain ⟨lr, hbk⟩ := h.hl.bk
  refine (Switch_v h.hj hbk h.hd hr hn hv hE h.a1 h.a2 h.hs hf ⟨h.dJ.2.1, h.dJ.2.2, h.dJ.1⟩).mono ?_
  rintro e w' ⟨L', v', he, hj, hl, hd, hL, hvv, hk⟩
  have hln : (l.map Rv.r).length = n := by rw [List.length_map, hr.1]
  rw [← hln] at hj
  have hJl := h.hj.lt
  have hpl := h.hd.plt
  have hsl := h.hd.slt
  have hml := h.hd.mlt
  have h4 : ∀ k, k = J ∨ k = p ∨ k = s ∨ k = m → k < w.heap.size := fun k hk => by rcases hk with rfl | rfl | rfl | rfl <;> assumption
  refine ⟨L', v', he, jd_beg h.hd.hC h.hd.hB hj hl hd (by omega) h.a1 h.a2 h.hs hf hv h.dJ (fun k hk => ⟨by have := h4 k hk; omega, fun e => by have := hvv k e; have := h4 k hk; omega⟩), ⟨hk.mono (fun k e => ?_), fun k e => ?_⟩⟩
  · rcases e with e | e | e
    · exact .inl (.inl e)
    · exact .inl (.inr (.inr (.inl e)))
    · exact .inl (.inr (.inr (.inr e)))
  · rcases e with e | e | e
    · exact .inl (.inl e)
    · exact .inr (by omega)
    · exact .inr (hvv k e)

theorem cnts_new : cnts (zs (6 * 256)) (noC 6) 2 = (0, 0) := by decide +kernel
theorem heads_new : ∀ i, i < 2 → (rdHead (look (zs (6 * 256)) (noC 6) i)).1 ≤ 9223372036854775807 := by
  intro i hi
  rcases (show i = 0 ∨ i = 1 by omega) with rfl | rfl <;> decide +kernel
theorem numB_600 : numSize 600 = 2 := by decide
theorem numB_1 : numSize 1 = 1 := by decide
theorem numB_0 : numSize 0 = 1 := by decide
theorem len_600 (S : List UInt8) (d : List UInt8) (hd : d.length = 600) : (recsB S ([] ++ [((1 : UInt8), d)])).length = 611 := by
  simp only [List.nil_append, recsB, List.length_append, recB_length, List.length_nil, hd, numB_600]
theorem len_q (S : List UInt8) : (recsB S ([] ++ [((7 : UInt8), ([113] : List UInt8))])).length = 11 := by
  simp only [List.nil_append, recsB, List.length_append, recB_length, List.length_nil, List.length_cons, Nat.zero_add, numB_1]
theorem len_8 (S : List UInt8) : (recsB S [((8 : UInt8), ([] : List UInt8))]).length = 10 := by
  simp only [recsB, List.length_append, recB_length, List.length_nil, numB_0]

/-- A record in a list of its own. -/
theorem Rs.one {w : World} {x : Rv} {top : Nat} (h : x.ok w top) (ht : top ≤ w.heap.size) : Rs (w.alloc (.cells x.cells.toArray 33)) (w.heap.size + 1) (some ⟨w.heap.size, 0, none⟩) 1 1 [x] := by
  have hb := bl_alloc (bl0 w) (.cells x.cells.toArray 33)
  refine ⟨rfl, Nat.le_refl _, fun y hy => ?_, fun _ => ⟨_, rfl, Nat.lt_succ_self _, fun j y hy i v hv => ?_⟩⟩
  · obtain rfl := List.mem_singleton.1 hy
    exact Rv.ok.more (h.below (hb.mono ht)) (by omega)
  · obtain rfl : j = 0 := by
      rcases j with _ | j
      · rfl
      · simp at hy
    simp only [List.getElem?_cons_zero, Option.some.injEq] at hy
    subst hy
    have hc := (Bk.new w x.cells 33).cell (k := i) hv
    have ha : (⟨w.heap.size, 0, none⟩ : Addr).add (0 * 2 + i) = ⟨w.heap.size, i, none⟩ := by unfold Addr.add; split <;> simp_all
    rw [ha]
    exact hc
theorem Vrs_8 : Vrs ([(⟨8, [], none, 0⟩ : Rv)].map Rv.r) := fun r hr => by
  obtain rfl := List.mem_singleton.1 hr
  exact ⟨by decide, by decide⟩

set_option maxHeartbeats 3200000 in
theorem JournalNames_walk (w : World) : Calls Tryz.prog 3 #[] w fun e w' => e = .returned (.bool true) ∧ Below w.heap.size w w' := by
  have HN := Lib.hid (new_any w 6 (by omega) (by omega))
  rw [show ((6 : Nat) : Int) = 6 from rfl] at HN
  have hC6 : (noC 6).length = 6 := noC_len 6
  go_enter Tryz.func3, Tryz.ntmps3
  go_wp2_with fail
  refine HN.out.mono ?_
  rintro e w1 ⟨p, s, m, rfl, hd1, hi1, hb1⟩
  have hcn := cnts_new
  have hhn := heads_new
  generalize zs (6 * 256) = B0 at hd1 hcn hhn
  generalize noC 6 = C0 at hd1 hcn hhn hC6
  have hs3 : C0.length < sectN 3 := by rw [hC6]; decide +kernel
  have HF3 := Lib.hid (Format_bad hd1 3 (.inr hs3))
  have HOB := Lib.hid (Open_bad hd1 (by rw [hC6]; omega) hhn (by rw [hcn]))
  have HD1 := Lib.hid hd1
  have HH1 := Lib.hid hi1
  have HB1 := Lib.hid hb1
  clear hd1 hi1 hb1 HN hcn hhn hs3
  go_wp2_with fail
  refine (Format_nil w1 2).mono ?_; rintro e w' ⟨rfl, hw⟩; subst w'
  go_wp2_with fail
  refine HF3.out.mono ?_; rintro e w' ⟨rfl, hw⟩; subst w'
  go_wp2_with fail
  refine (Open_nil w1).mono ?_; rintro e w' ⟨rfl, hw⟩; subst w'
  go_wp2_with fail
  refine HOB.out.mono ?_
  rintro e w2 ⟨rfl, hb2⟩
  have hd2 := HD1.out.old hb2
  have HB2 := Lib.hid (bl_call HB1.out hb2)
  have HF := Lib.hid (Format_j (area := 2) hd2 (by omega) (by omega) (by rw [hC6]; omega))
  rw [show ((2 : Nat) : Int) = 2 from rfl, hC6] at HF
  have hlo : ∀ k, k = s ∨ k = m → w.heap.size ≤ k := fun k hk => by have := HB1.out.size; obtain ⟨h1, h2, h3⟩ := HH1.out; omega
  have HLO := Lib.hid hlo
  clear hd2 hb2 hlo HOB HF3 HB1 HD1
  go_wp2_with fail
  refine HF.out.mono ?_
  rintro e w3 ⟨J, L, rfl, hj3, hJ3, hL3, hk3⟩
  generalize begB B0 (C0.set 1 (some (List.replicate 256 0))) 0 2 [] = B3 at *
  have HB3 := Lib.hid (bl_dk (p := p) (s := s) (m := m) HB2.out hk3 HLO.out)
  have HF3 := Lib.hid (show ∀ k, jF J p s m L (.slice none 0 0) k → w.heap.size ≤ k from fun k hk => by
    have hw2 := HB2.out.size
    obtain ⟨h1, h2, h3⟩ := HH1.out
    rcases hk with hk | hk | hk
    · omega
    · omega
    · cases hk)
  have HJ3 := Lib.hid hj3
  clear hj3 hk3 HF HB2
  obtain ⟨Z, hZ⟩ : ∃ Z : List UInt8, Z = List.replicate 600 0 := ⟨_, rfl⟩
  have hZl : Z.length = 600 := by rw [hZ]; simp
  have hmk : (Instr.makeSlice 31 (.int .i64 600) (.int .i64 600)).run Tryz.prog w3 = .ok (.slice (some ⟨w3.heap.size, 0, none⟩) 600 600) (w3.alloc (.cells (cs8 Z).toArray 5)) := by rw [hZ]; exact run_make8 w3 600 (by omega)
  have hb4 := bl_alloc (bl0 w3) (.cells (cs8 Z).toArray 5)
  have hrd : Rd (w3.alloc (.cells (cs8 Z).toArray 5)) (w3.alloc (.cells (cs8 Z).toArray 5)).heap.size (some ⟨w3.heap.size, 0, none⟩) 600 600 Z := by
    have := Rd.mark w3 Z (0, 0)
    rw [hZl] at this
    exact this
  have HAP := Lib.hid (Append_j (HJ3.out.old hb4) 1 Z hrd ⟨by decide, by omega⟩ (fun ad e h => by injection e with e; subst e; have := HJ3.out.lt _ h; simp at this))
  have HZ6 := Lib.hid (fun S => len_600 S Z hZl)
  have HB4 := Lib.hid (bl_call HB3.out hb4)
  clear hZ hb4 hrd hZl HJ3 HB3
  go_wp2_with fail
  clear hmk
  refine HAP.out.mono ?_
  rintro e w5 ⟨v5, hst5, hor⟩
  obtain ⟨-, rfl, hj5⟩ : 2 * 256 < (recsB (fstC 0) ([] ++ [((1 : UInt8), Z)])).length ∧ e = .returned (.int .i64 7) ∧ Jd w5 J p s m L v5 2 0 [] 0 B3 (noC 6) := by
    rcases hor with h | ⟨h, _⟩
    · exact h
    · rw [HZ6.out] at h; omega
  obtain ⟨hb5, hf5⟩ := bl_stp HB4.out HF3.out hst5
  have HAB := Lib.hid (Append_bad (A := none) (n := 0) (c := 0) hj5 0 (fun h => h.1 rfl))
  have HJ5 := Lib.hid hj5
  have HB5 := Lib.hid hb5
  have HF5 := Lib.hid hf5
  clear hor hj5 hst5 hb5 hf5 HAP HB4 HF3 HZ6
  go_wp2_with fail
  refine HAB.out.mono ?_
  rintro e w6 ⟨rfl, hb6⟩
  have HB6 := Lib.hid (bl_call HB5.out hb6)
  have HJ6 := Lib.hid (HJ5.out.old hb6)
  clear hb6 HAB HB5 HJ5
  have hcv := fun W : World => Lib.run_convert_bytes_const W 31 5 #[.int .u8 113] 1 1 Tryz.underlying31 Tryz.underlying5
  simp only [List.size_toArray, List.length_cons, List.length_nil, Nat.zero_add, Nat.reduceAdd] at hcv
  have hrd7 : Rd (w6.alloc (.cells #[.int .u8 113] 5 (1, 2))) (w6.alloc (.cells #[.int .u8 113] 5 (1, 2))).heap.size (some ⟨w6.heap.size, 0, none⟩) 1 1 [113] := Rd.mark w6 [113] (1, 2)
  have hb7 := bl_alloc (bl0 w6) (.cells #[.int .u8 113] 5 (1, 2))
  have HAQ := Lib.hid (Append_j (HJ6.out.old hb7) 7 [113] hrd7 ⟨by decide, by decide⟩ (fun ad e h => by injection e with e; subst e; have := HJ6.out.lt _ h; simp at this))
  have HB7 := Lib.hid (bl_call HB6.out hb7)
  clear hrd7 hb7 HB6 HJ6
  go_wp2_with fail
  refine HAQ.out.mono ?_
  rintro e w8 ⟨v8, hst8, hor⟩
  obtain ⟨-, rfl, hj8⟩ : (recsB (fstC 0) ([] ++ [((7 : UInt8), ([113] : List UInt8))])).length ≤ 2 * 256 ∧ e = .returned (.int .i64 0) ∧ Jd w8 J p s m L v8 2 0 ([] ++ [(7, [113])]) 0 B3 (apC (noC 6) 0 2 [] ([] ++ [(7, [113])])) := by
    rcases hor with ⟨h, _⟩ | h
    · rw [len_q] at h; omega
    · exact h
  obtain ⟨hb8, hf8⟩ := bl_stp HB7.out HF5.out hst8
  have HSN := Lib.hid (synced_j hj8.hj)
  have HSY := Lib.hid (Sync_j hj8)
  have HB8 := Lib.hid hb8
  have HF8 := Lib.hid hf8
  rw [show ((0 : Nat) : Int) = 0 from rfl] at HSN
  clear hor hj8 hst8 hb8 hf8 HAQ HB7 HF5 hcv
  generalize apC (noC 6) 0 2 [] ([] ++ [(7, [113])]) = C8 at *
  go_wp2_with fail
  refine HSN.out.mono ?_; rintro e w' ⟨rfl, hw⟩; subst w'
  go_wp2_with fail
  refine HSY.out.mono ?_
  rintro e w9 ⟨v9, rfl, hj9, hst9⟩
  obtain ⟨hb9, hf9⟩ := bl_stp HB8.out HF8.out hst9
  have HSM := Lib.hid (show Calls Tryz.prog 11 #[pt0 J] w9 fun e w' => e = .returned (.int .i64 1) ∧ w' = w9 from synced_j hj9.hj)
  have HJ9 := Lib.hid hj9
  have HB9 := Lib.hid hb9
  have HF9 := Lib.hid hf9
  clear hj9 hst9 hb9 hf9 HSN HSY HB8 HF8
  go_wp2_with fail
  refine HSM.out.mono ?_; rintro e w' ⟨rfl, hw⟩; subst w'
  go_wp2_with fail
  have hx : (⟨8, [], none, 0⟩ : Rv).ok w9 w9.heap.size := Rd.nil _ _ _ _
  have hrs : Rs (w9.alloc (.cells #[.int .u8 8, .slice none 0 0] 33)) (w9.alloc (.cells #[.int .u8 8, .slice none 0 0] 33)).heap.size (some ⟨w9.heap.size, 0, none⟩) 1 1 [⟨8, [], none, 0⟩] := by
    have := Rs.one hx (Nat.le_refl _)
    rw [show w9.heap.size + 1 = (w9.alloc (.cells #[.int .u8 8, .slice none 0 0] 33)).heap.size from by simp] at this
    exact this
  have hb10 := bl_alloc (bl0 w9) (.cells #[.int .u8 8, .slice none 0 0] 33)
  have HSW := Lib.hid (Switch_j (HJ9.out.old hb10) hrs (by omega) Vrs_8 (by omega) (by rw [show ([(⟨8, [], none, 0⟩ : Rv)].map Rv.r) = [(8, [])] from rfl, len_8]; omega))
  have HB10 := Lib.hid (bl_call HB9.out hb10)
  clear hx hrs hb10 HSM HJ9 HB9
  refine HSW.out.mono ?_
  rintro e w11 ⟨L', v11, rfl, hj11, hst11⟩
  obtain ⟨hb11, hf11⟩ := bl_stp HB10.out HF9.out hst11
  have HSM := Lib.hid (show Calls Tryz.prog 14 #[pt0 J] w11 (RsMade w11 [(8, [])]) from Records_j hj11)
  have HJ11 := Lib.hid hj11
  have HB11 := Lib.hid hb11
  clear hj11 hst11 hb11 HSW HB10 HF9
  go_wp2_with fail
  refine HSM.out.mono ?_
  rintro e w12 ⟨A, n, c, l, rfl, hl, hrs, -, hb12⟩
  obtain rfl : n = 1 := by rw [← hrs.1, ← List.length_map (f := Rv.r), hl]; rfl
  have HRS := Lib.hid hrs
  have HLL := Lib.hid hl
  have HB12 := Lib.hid (bl_call HB11.out hb12)
  have HJ12 := Lib.hid (HJ11.out.old hb12)
  clear hrs hl hb12 HSM HB11 HJ11 hf11
  go_wp2_with fail
  refine (lives_any w12).mono ?_
  rintro e w13 ⟨rfl, hb13⟩
  have hj13 := HJ12.out.old hb13
  obtain ⟨ad, x, rfl, hx, -, -, c0, -⟩ := (HRS.out.lift hb13).at_ (k := 0) (by omega)
  have hxk : x.k = 8 := by
    have h := HLL.out
    have h2 := congrArg (fun q => q[0]?) h
    simp only [List.getElem?_map, hx] at h2
    exact congrArg (fun q => (q.getD (0, [])).1) h2
  rw [hxk, Nat.zero_mul] at c0
  have c00 : w13.cell? ad = some (.int .u8 8) := c0
  have HEP := Lib.hid (show Calls Tryz.prog 16 #[pt0 J] w13 fun e w' => e = .returned (.int .u64 1) ∧ w' = w13 from Epoch_j hj13)
  have HSN := Lib.hid (show Calls Tryz.prog 11 #[pt0 J] w13 fun e w' => e = .returned (.int .i64 1) ∧ w' = w13 from synced_j hj13.hj)
  have HB13 := Lib.hid (bl_call HB12.out hb13)
  have HS2 := Lib.hid (show Calls Tryz.prog 17 #[.int .i64 2] w13 fun e w' => e = .returned (.int .i64 6) ∧ w' = w13 from Sectors_any 2 w13)
  have HS0 := Lib.hid (show Calls Tryz.prog 17 #[.int .i64 0] w13 fun e w' => e = .returned (.int .i64 0) ∧ w' = w13 from Sectors_any 0 w13)
  clear hj13 hb13 hx hxk HB12 HJ12 HRS HLL
  go_wp2_with fail
  refine HEP.out.mono ?_; rintro e w' ⟨rfl, hw⟩; subst w'
  go_wp2_with fail
  refine HSN.out.mono ?_; rintro e w' ⟨rfl, hw⟩; subst w'
  go_wp2_with fail
  refine HS2.out.mono ?_; rintro e w' ⟨rfl, hw⟩; subst w'
  go_wp2_with fail
  refine HS0.out.mono ?_; rintro e w' ⟨rfl, hw⟩; subst w'
  go_wp2_with fail
  go_ret
  exact ⟨rfl, HB13.out⟩
end Go.Proofs.YtgpfognglpfmoaaGreatDoor
