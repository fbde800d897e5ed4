/- RecordBound: the walk of a record that may be. -/
import Derived.Test.YtjaoaikcmbfnmaaBo
import Derived.Test.YtjaoaikcmbfnmaaPk
import Derived.Laws.OwnMore
namespace Go.Proofs.Ytjaoaikcmbfnmaa
set_option maxRecDepth 100000
set_option linter.unusedSimpArgs false
set_option linter.unusedVariables false
open Go.RowKit

/-- Read has answered something, with an error. -/
def ReadAny (w : World) (F : Int) (e : Ending) (w' : World) : Prop :=
  ∃ k A n c sz S, e = .returned (.tuple #[.agg #[.int .u8 k, .slice A n c], .int .i64 sz, .agg (cs8 S).toArray, .int .i64 F]) ∧ S.length = 32 ∧ Below w.heap.size w w'
theorem ReadAny.of_ok {w : World} {S : List UInt8} {k : UInt8} {d : List UInt8} {sz : Nat} {e : Ending} {w' : World} (hS : S.length = 32) (h : ReadOk w S k d sz e w') : ReadAny w 0 e w' := by
  obtain ⟨A, n, c, he, _, hb⟩ := h
  exact ⟨_, A, _, c, _, S, he, hS, hb⟩
theorem ReadAny.of_bad {w : World} {F : Int} {e : Ending} {w' : World} (h : ReadBad w F e w') : ReadAny w F e w' := ⟨0, none, 0, 0, 0, C0, h.1, rfl, h.2⟩
/-- Of bytes that are good, but for the chain. -/
theorem read_other (C D : List UInt8) (k : UInt8) (l : List UInt8) (hv : Vr k l) : readErr D (recB C k l) = if (nextR C k l).take 8 = (nextR D k l).take 8 then 0 else 4 := by
  have := (read_put C k l [] hv).1
  rw [List.append_nil] at this
  rw [readErr, this]
  simp

theorem exec_conv_str {o : Oper} {a : Act} {w : World} (x : Operand) (ho : o.op = .convert 26 9 x) {top n c : Nat} {A : Option Addr} {l : List UInt8} (hx : a.eval x = .slice A n c) (h : Rd w top A n c l) :
    (execOp a.eval o).run Try.prog w = .ok (.value (.string (str l))) w := by
  unfold execOp
  simp only [ho, hx, run_str h, Sem.run_bind, Result.andThen_ok, Sem.run_pure]
theorem exec_eq_str {o : Oper} {a : Act} {w : World} (x y : Operand) (ho : o.op = .binOp .eql 9 x y 9) {l l2 : List UInt8} (hx : a.eval x = .string (str l)) (hy : a.eval y = .string (str l2)) {b : Bool} (hb : (l == l2) = b) :
    (execOp a.eval o).run Try.prog w = .ok (.value (.bool b)) w := by
  unfold execOp
  simp only [ho, hx, hy]
  go_simp
/-- A record's variable and a chain's, laid and filled. -/
theorem bk_lay (w : World) (R : List Value) : Bk ((w.alloc (.cells R.toArray 31)).alloc (.cells z36.toArray 23)) (w.heap.size + 1) z36 := by
  have := Bk.new (w.alloc (.cells R.toArray 31)) z36 23
  rwa [show (w.alloc (.cells R.toArray 31)).heap.size = w.heap.size + 1 from by simp] at this
structure Lay2 (w w' : World) (R S : List Value) : Prop where
  bel : Below w.heap.size w w'
  r : Bk w' w.heap.size R
  s : Bk w' (w.heap.size + 1) S
theorem lay2 (w : World) (R S : List Value) : Lay2 w (((w.alloc (.cells R.toArray 31)).alloc (.cells z36.toArray 23)).setRow (w.heap.size + 1) S.toArray) R S :=
  ⟨bl_setRow (bl_alloc (bl_alloc (bl0 w) _) _) (by omega) _, ((Bk.new w R 31).old _).other (by omega) _, (bk_lay w R).setRow S⟩
/-- A chain's variable, laid and filled. -/
theorem lay1 (w : World) (S : List Value) : Below w.heap.size w ((w.alloc (.cells z36.toArray 23)).setRow w.heap.size S.toArray) ∧ Bk ((w.alloc (.cells z36.toArray 23)).setRow w.heap.size S.toArray) w.heap.size S :=
  ⟨bl_setRow (bl_alloc (bl0 w) _) (Nat.le_refl _) _, (Bk.new w z36 23).setRow S⟩

set_option maxHeartbeats 3200000 in
theorem Bound_one (A : Option Addr) (n c : Nat) (l C D : List UInt8) (k by_ : UInt8) (at_ : Int) (w : World) (hC : C.length = 32) (hD : D.length = 32) (hr : Rd w w.heap.size A n c l) (hv : Vr k l) (F : Int) (hF : F = readErr D (recB C k l)) (hF0 : F = 0 ∨ F = 4)
    (hq : (List.take 8 (nextR D k l) == List.take 8 (nextR C k l)) = (F == 0)) :
    Calls Try.prog 5 #[.agg #[.int .u8 (k.toNat : Int), .slice A n c], .agg (cs8 C).toArray, .agg (cs8 D).toArray, .int .i64 at_, .int .u8 (by_.toNat : Int)] w fun e w' => e = .returned (.bool true) ∧ Below w.heap.size w w' := by
  have hl := hr.len
  have hn : n ≤ 8192 := by have := hv.2; omega
  have hk0 := hv.1
  have HB := Lib.hid (Bx.mk0 w C D k hr)
  have HK := Lib.hid hk0
  have HBL := Lib.hid (recB_length C k l)
  have hns := numSize_bd l.length
  have hbl : (recB C k l).length ≤ 8210 := by rw [recB_length]; omega
  have HBy := Lib.hid (fun (W : World) (h : Rd W W.heap.size A n c l) => Bytes_good W hC h hk0 hn)
  have HRd := Lib.hid (fun (W : World) (B : Option Addr) (q : Nat) (h : Rd W W.heap.size B (recB C k l).length q (recB C k l)) => Read_good W hC h (by omega) k l [] hv (by simp))
  have HNx := Lib.hid (fun (W : World) (h : Rd W W.heap.size A n c l) => Next_any k W hD h (by omega))
  have HRD : Hid (∀ (W : World) (B : Option Addr) (q : Nat), Rd W W.heap.size B (recB C k l).length q (recB C k l) → Calls Try.prog 9 #[.agg (cs8 D).toArray, .slice B (recB C k l).length q] W (ReadAny W F)) := Lib.hid fun W B q h => by
    by_cases h0 : readErr D (recB C k l) = 0
    · obtain ⟨k', d', t', hv', he'⟩ := read_ex D _ h0
      rw [hF, h0]
      exact (Read_good W hD h (by omega) k' d' t' hv' he').mono fun _ _ hh => ReadAny.of_ok (nextR_length _ _ _) hh
    · rw [hF]
      exact (Read_fail W hD h (by omega) h0).mono fun _ _ hh => ReadAny.of_bad hh
  have HSC := Lib.hid (nextR_length C k l)
  have HSD := Lib.hid (nextR_length D k l)
  have HC8 := Lib.hid (show (cs8 C).length = 32 by rw [cs8_length, hC])
  have HD8 := Lib.hid (show (cs8 D).length = 32 by rw [cs8_length, hD])
  have HSC8 := Lib.hid (show (cs8 (nextR C k l)).length = 32 by rw [cs8_length, nextR_length])
  have HSD8 := Lib.hid (show (cs8 (nextR D k l)).length = 32 by rw [cs8_length, nextR_length])
  have HSame := Lib.hid (arr_same (nextR_length C k l))
  have HQ := Lib.hid hq
  have HT : Hid (∀ t : List UInt8, t.length = (recB C k l).length → t ≠ recB C k l → readErr C t = 0 → ∀ k' d' t', Vr k' d' → t = recB C k' d' ++ t' → ¬ (k' = k ∧ d' = l)) := Lib.hid (by
    rintro t htl hne - k' d' t' _ e ⟨rfl, rfl⟩
    apply hne
    have := congrArg List.length e
    rw [List.length_append] at this
    have ht' : t' = [] := List.eq_nil_of_length_eq_zero (by omega)
    rw [e, ht', List.append_nil])
  have HTr : Hid (readErr C (recB C k l) = 0) := Lib.hid (by have := (read_put C k l [] hv).2; simpa using this)
  clear hr hl hv hk0 hq hns
  generalize nextR C k l = SC at HBy HRd HSC HSC8 HSame HQ
  generalize nextR D k l = SD at HNx HSD HSD8 HQ
  generalize recB C k l = b at *
  clear hF
  go_enter Try.func5, Try.ntmps5
  go_wp2_with fail
  generalize (((w.alloc (.cells #[.int .u8 (k.toNat : Int), .slice A n c] 31)).alloc (.cells (cs8 C).toArray 23)).alloc (.cells (cs8 D).toArray 23)) = w1 at HB ⊢
  refine (lives_any w1).mono ?_; rintro e w2 ⟨rfl, hb⟩
  have HB2 := Lib.hid (HB.out.keep hb)
  clear HB hb
  have hc0 := HB2.out.hr.cell (k := 0) rfl
  have hc1 := HB2.out.hr.cell (k := 1) rfl
  go_wp2_with fail
  refine (Check_good _ HK.out hn).mono ?_; rintro e w3 ⟨rfl, hb⟩
  have HB3 := Lib.hid (HB2.out.keep hb)
  clear HB2 hb hc0 hc1
  have hc0 := HB3.out.hr.cell (k := 0) rfl
  have hc1 := HB3.out.hr.cell (k := 1) rfl
  go_wp2_with (first | (refine wpList_load_at rfl 23 _ rfl ⟨w.heap.size + 1, 0, none⟩ rfl (cs8 C) _ HB3.out.hc.at_ Try.underlying23 rfl (by rw [HC8.out]; exact info36) ?_) | fail)
  refine (HBy.out _ HB3.out.rd).mono ?_; rintro e w4 ⟨v4, rfl, ho4, hb⟩
  have HB4 := Lib.hid (HB3.out.keep hb)
  obtain ⟨A4, c4, rfl, hl4⟩ := ho4.sl rfl
  have HL4 := Lib.hid hl4
  clear HB3 hb hc0 hc1 ho4 hl4
  have HN5 := Lib.hid ((Bk.new w4 z36 23).setRow (cs8 SC))
  have hbb : Below w4.heap.size w4 ((w4.alloc (.cells z36.toArray 23)).setRow w4.heap.size (cs8 SC).toArray) := bl_setRow (bl_alloc (bl0 w4) _) (Nat.le_refl _) _
  have HB5 := Lib.hid (HB4.out.keep hbb)
  have HL5 := Lib.hid ((HL4.out.below hbb).more hbb.size)
  clear hbb
  go_wp2_with (first | (refine wpList_alloc_z rfl 23 rfl z36 zero36 ?_) | (refine wpList_store_bk rfl 23 _ _ rfl w4.heap.size rfl (cs8 SC) z36 rfl (Bk.new w4 z36 23) (by rw [HSC8.out]; exact info36) (by rw [HSC8.out]; exact len_z36) (cs8_all _) ?_) | (refine wpList_load_at rfl 23 _ rfl ⟨w.heap.size + 1, 0, none⟩ rfl (cs8 C) _ HB5.out.hc.at_ Try.underlying23 rfl (by rw [HC8.out]; exact info36) ?_))
  generalize (w4.alloc (.cells z36.toArray 23)).setRow w4.heap.size (cs8 SC).toArray = w5 at HN5 HB5 HL5 ⊢
  have hz4 := HB4.out.lt
  clear HL4 HB4
  generalize w4.heap.size = bn at HN5 hz4 ⊢
  refine (HRd.out _ _ _ HL5.out.rd).mono ?_; rintro e w6 ⟨A6, n6, c6, rfl, ho6, hb⟩
  have HB6 := Lib.hid (HB5.out.keep hb)
  have HN6 := Lib.hid (HN5.out.keep hb)
  have HL6 := Lib.hid ((HL5.out.below hb).more hb.size)
  obtain ⟨A7, c7, e7, hr7⟩ := ho6.rdN rfl
  injection e7 with e71 e72 e73
  subst e71 e72 e73
  have HX6 := Lib.hid hr7
  clear hb ho6 hr7 HB5 HN5 HL5
  have hl2 := lay2 w6 [.int .u8 (k.toNat : Int), .slice A6 l.length c6] (cs8 SC)
  have HB7 := Lib.hid (HB6.out.keep hl2.bel)
  have HN7 := Lib.hid (HN6.out.keep hl2.bel)
  have HL7 := Lib.hid ((HL6.out.below hl2.bel).more hl2.bel.size)
  have HX7 := Lib.hid (HX6.out.top hl2.bel)
  have HR7 := Lib.hid hl2.r
  have HS7 := Lib.hid hl2.s
  have hz6 := HN6.out.lt
  clear hl2
  have hc0 := HB7.out.hr.cell (k := 0) rfl
  have hc1 := HB7.out.hr.cell (k := 1) rfl
  have hd0 := HR7.out.cell (k := 0) rfl
  have hd1 := HR7.out.cell (k := 1) rfl
  go_wp2_with (first | (refine wpList_alloc_z rfl 23 rfl z36 zero36 ?_) | (refine wpList_store_bk rfl 23 _ _ rfl (w6.heap.size + 1) rfl (cs8 SC) z36 rfl (bk_lay w6 _) (by rw [HSC8.out]; exact info36) (by rw [HSC8.out]; exact len_z36) (cs8_all _) ?_))
  generalize ((w6.alloc (.cells [.int .u8 (k.toNat : Int), .slice A6 l.length c6].toArray 31)).alloc (.cells z36.toArray 23)).setRow (w6.heap.size + 1) (cs8 SC).toArray = w7 at HB7 HN7 HL7 HX7 HR7 HS7 hc0 hc1 hd0 hd1 ⊢
  generalize w6.heap.size = bx at HR7 HS7 hz6 hd0 hd1 ⊢
  clear HB6 HN6 HL6 HX6
  refine (Rec_yes w7 HX7.out HB7.out.rd ⟨rfl, rfl⟩).mono ?_; rintro e w8 ⟨rfl, hb⟩
  have HB8 := Lib.hid (HB7.out.keep hb)
  have HN8 := Lib.hid (HN7.out.keep hb)
  have HL8 := Lib.hid ((HL7.out.below hb).more hb.size)
  have HS8 := Lib.hid (HS7.out.keep hb)
  clear hb HB7 HN7 HL7 HX7 HR7 HS7 hc0 hc1 hd0 hd1
  have hc0 := HB8.out.hr.cell (k := 0) rfl
  have hc1 := HB8.out.hr.cell (k := 1) rfl
  have harr := HSame.out
  go_wp2_with (first | (refine wpList_load_at rfl 23 _ rfl ⟨w.heap.size + 1 + 1, 0, none⟩ rfl (cs8 D) _ HB8.out.hd.at_ Try.underlying23 rfl (by rw [HD8.out]; exact info36) ?_) | (refine wpList_load_atG rfl 23 _ rfl ⟨bx + 1, 0, none⟩ rfl (cs8 SC) _ HS8.out.at_ Try.underlying23 rfl (by rw [HSC8.out]; exact info36) ?_) | (refine wpList_load_atG rfl 23 _ rfl ⟨bn, 0, none⟩ rfl (cs8 SC) _ HN8.out.at_ Try.underlying23 rfl (by rw [HSC8.out]; exact info36) ?_))
  refine (HNx.out w8 HB8.out.rd).mono ?_; rintro e w9 ⟨rfl, hb⟩
  have HB9 := Lib.hid (HB8.out.keep hb)
  have HN9 := Lib.hid (HN8.out.keep hb)
  have HL9 := Lib.hid ((HL8.out.below hb).more hb.size)
  clear hb HB8 HN8 HL8 HS8 hc0 hc1 harr
  have hl1 := lay1 w9 (cs8 SD)
  have HB10 := Lib.hid (HB9.out.keep hl1.1)
  have HN10 := Lib.hid (HN9.out.keep hl1.1)
  have HL10 := Lib.hid ((HL9.out.below hl1.1).more hl1.1.size)
  have HO10 := Lib.hid hl1.2
  have hz9 := HN9.out.lt
  clear hl1
  go_wp2_with (first | (refine wpList_alloc_z rfl 23 rfl z36 zero36 ?_) | (refine wpList_store_bk rfl 23 _ _ rfl w9.heap.size rfl (cs8 SD) z36 rfl (Bk.new w9 z36 23) (by rw [HSD8.out]; exact info36) (by rw [HSD8.out]; exact len_z36) (cs8_all _) ?_) | (refine wpList_load_at rfl 23 _ rfl ⟨w.heap.size + 1 + 1, 0, none⟩ rfl (cs8 D) _ HB10.out.hd.at_ Try.underlying23 rfl (by rw [HD8.out]; exact info36) ?_))
  generalize (w9.alloc (.cells z36.toArray 23)).setRow w9.heap.size (cs8 SD).toArray = w10 at HB10 HN10 HL10 HO10 ⊢
  generalize w9.heap.size = bo at HO10 hz9 ⊢
  clear HB9 HN9 HL9
  refine (HRD.out _ _ _ HL10.out.rd).mono ?_; rintro e w11 ⟨k', A', n', c', sz', S', rfl, hS', hb⟩
  have HB11 := Lib.hid (HB10.out.keep hb)
  have HN11 := Lib.hid (HN10.out.keep hb)
  have HL11 := Lib.hid ((HL10.out.below hb).more hb.size)
  have HO11 := Lib.hid (HO10.out.keep hb)
  clear hb HB10 HN10 HL10 HO10
  have HS8' := Lib.hid (show (cs8 S').length = 32 by rw [cs8_length, hS'])
  have hl2 := lay2 w11 [.int .u8 k', .slice A' n' c'] (cs8 S')
  have HB12 := Lib.hid (HB11.out.keep hl2.bel)
  have HN12 := Lib.hid (HN11.out.keep hl2.bel)
  have HL12 := Lib.hid ((HL11.out.below hl2.bel).more hl2.bel.size)
  have HO12 := Lib.hid (HO11.out.keep hl2.bel)
  clear hl2
  go_wp2_with (first | (refine wpList_alloc_z rfl 23 rfl z36 zero36 ?_) | (refine wpList_store_bk rfl 23 _ _ rfl (w11.heap.size + 1) rfl (cs8 S') z36 rfl (bk_lay w11 _) (by rw [HS8'.out]; exact info36) (by rw [HS8'.out]; exact len_z36) (cs8_all _) ?_))
  generalize ((w11.alloc (.cells [.int .u8 k', .slice A' n' c'].toArray 31)).alloc (.cells z36.toArray 23)).setRow (w11.heap.size + 1) (cs8 S').toArray = w12 at HB12 HN12 HL12 HO12 ⊢
  clear HB11 HN11 HL11 HO11 hS' HS8'
  generalize w11.heap.size = by0
  have hR := Old.stays
  refine reg_start Old follows_mixed ?_
  have HB13 := Lib.hid (HB12.out.keep (Below.refl _ w12).drew)
  have HN13 := Lib.hid HN12.out.drew
  have HO13 := Lib.hid HO12.out.drew
  have HL13 : Hid (Sl w12.drew w12.drew.heap.size A4 b.length c4 b) := Lib.hid (HL12.out.below (Below.refl _ w12).drew)
  clear HB12 HN12 HO12 HL12
  generalize w12.drew = w13 at HB13 HN13 HO13 HL13 ⊢
  rcases hF0 with rfl | rfl
  rotate_left
  · skip
    refine reg_take (v := .int .i64 4) hR 0 rfl (by kernel_rfl) (by kernel_rfl) (by kernel_rfl) (fun _ _ _ h => h) (by rfl) ?_ ?_
    · intro W hW; go_simp; try with_reducible rfl
    try simp only [Act.put, List.getElem_toArray, List.getElem_cons_succ, List.getElem_cons_zero, List.setIfInBounds_toArray, List.set_cons_zero, List.set_cons_succ]
    refine reg_take (v := .bool false) hR 1 rfl (by kernel_rfl) (by kernel_rfl) (by kernel_rfl) (fun _ _ _ h => h) (by rfl) ?_ ?_
    · intro W hW; go_simp; try with_reducible rfl
    try simp only [Act.put, List.getElem_toArray, List.getElem_cons_succ, List.getElem_cons_zero, List.setIfInBounds_toArray, List.set_cons_zero, List.set_cons_succ]
    refine reg_take (v := .slice (some ⟨bo, 0, none⟩) 8 32) hR 2 rfl (by kernel_rfl) (by kernel_rfl) (by kernel_rfl) (fun _ _ _ h => h) (by rfl) ?_ ?_
    · intro W hW; exact exec_slice_hi _ _ rfl rfl rfl Try.underlying23 (by decide) (by decide)
    try simp only [Act.put, List.getElem_toArray, List.getElem_cons_succ, List.getElem_cons_zero, List.setIfInBounds_toArray, List.set_cons_zero, List.set_cons_succ]
    refine reg_take (v := .string (str (List.take 8 SD))) hR 3 rfl (by kernel_rfl) (by kernel_rfl) (by kernel_rfl) (fun _ _ _ h => h) (by rfl) ?_ ?_
    · intro W hW; exact exec_conv_str _ rfl rfl (((HO13.out.keep hW).sl HSD.out).rd.take_ (k := 8) (by decide))
    try simp only [Act.put, List.getElem_toArray, List.getElem_cons_succ, List.getElem_cons_zero, List.setIfInBounds_toArray, List.set_cons_zero, List.set_cons_succ]
    refine reg_take (v := .slice (some ⟨bn, 0, none⟩) 8 32) hR 4 rfl (by kernel_rfl) (by kernel_rfl) (by kernel_rfl) (fun _ _ _ h => h) (by rfl) ?_ ?_
    · intro W hW; exact exec_slice_hi _ _ rfl rfl rfl Try.underlying23 (by decide) (by decide)
    try simp only [Act.put, List.getElem_toArray, List.getElem_cons_succ, List.getElem_cons_zero, List.setIfInBounds_toArray, List.set_cons_zero, List.set_cons_succ]
    refine reg_take (v := .string (str (List.take 8 SC))) hR 5 rfl (by kernel_rfl) (by kernel_rfl) (by kernel_rfl) (fun _ _ _ h => h) (by rfl) ?_ ?_
    · intro W hW; exact exec_conv_str _ rfl rfl (((HN13.out.keep hW).sl HSC.out).rd.take_ (k := 8) (by decide))
    try simp only [Act.put, List.getElem_toArray, List.getElem_cons_succ, List.getElem_cons_zero, List.setIfInBounds_toArray, List.set_cons_zero, List.set_cons_succ]
    refine reg_take (v := .bool false) hR 6 rfl (by kernel_rfl) (by kernel_rfl) (by kernel_rfl) (fun _ _ _ h => h) (by rfl) ?_ ?_
    · intro W hW; exact exec_eq_str _ _ rfl rfl rfl HQ.out
    try simp only [Act.put, List.getElem_toArray, List.getElem_cons_succ, List.getElem_cons_zero, List.setIfInBounds_toArray, List.set_cons_zero, List.set_cons_succ]
    refine reg_take (v := .bool false) hR 7 rfl (by kernel_rfl) (by kernel_rfl) (by kernel_rfl) (fun _ _ _ h => h) (by rfl) ?_ ?_
    · intro W hW; go_simp; try with_reducible rfl
    try simp only [Act.put, List.getElem_toArray, List.getElem_cons_succ, List.getElem_cons_zero, List.setIfInBounds_toArray, List.set_cons_zero, List.set_cons_succ]
    refine reg_take (v := .bool false) hR 8 rfl (by kernel_rfl) (by kernel_rfl) (by kernel_rfl) (fun _ _ _ h => h) (by rfl) ?_ ?_
    · intro W hW; go_simp; try with_reducible rfl
    try simp only [Act.put, List.getElem_toArray, List.getElem_cons_succ, List.getElem_cons_zero, List.setIfInBounds_toArray, List.set_cons_zero, List.set_cons_succ]
    refine reg_take (v := .int .i64 4) hR 9 rfl (by kernel_rfl) (by kernel_rfl) (by kernel_rfl) (fun _ _ _ h => h) (by rfl) ?_ ?_
    · intro W hW; go_simp; try with_reducible rfl
    try simp only [Act.put, List.getElem_toArray, List.getElem_cons_succ, List.getElem_cons_zero, List.setIfInBounds_toArray, List.set_cons_zero, List.set_cons_succ]
    refine reg_take (v := .bool true) hR 10 rfl (by kernel_rfl) (by kernel_rfl) (by kernel_rfl) (fun _ _ _ h => h) (by rfl) ?_ ?_
    · intro W hW; go_simp; try with_reducible rfl
    try simp only [Act.put, List.getElem_toArray, List.getElem_cons_succ, List.getElem_cons_zero, List.setIfInBounds_toArray, List.set_cons_zero, List.set_cons_succ]
    refine reg_take (v := .bool true) hR 11 rfl (by kernel_rfl) (by kernel_rfl) (by kernel_rfl) (fun _ _ _ h => h) (by rfl) ?_ ?_
    · intro W hW; go_simp; try with_reducible rfl
    try simp only [Act.put, List.getElem_toArray, List.getElem_cons_succ, List.getElem_cons_zero, List.setIfInBounds_toArray, List.set_cons_zero, List.set_cons_succ]
    refine reg_take (v := .int .i64 4) hR 12 rfl (by kernel_rfl) (by kernel_rfl) (by kernel_rfl) (fun _ _ _ h => h) (by rfl) ?_ ?_
    · intro W hW; go_simp; try with_reducible rfl
    try simp only [Act.put, List.getElem_toArray, List.getElem_cons_succ, List.getElem_cons_zero, List.setIfInBounds_toArray, List.set_cons_zero, List.set_cons_succ]
    refine reg_take (v := .bool false) hR 13 rfl (by kernel_rfl) (by kernel_rfl) (by kernel_rfl) (fun _ _ _ h => h) (by rfl) ?_ ?_
    · intro W hW; go_simp; try with_reducible rfl
    try simp only [Act.put, List.getElem_toArray, List.getElem_cons_succ, List.getElem_cons_zero, List.setIfInBounds_toArray, List.set_cons_zero, List.set_cons_succ]
    refine reg_take (v := .bool false) hR 14 rfl (by kernel_rfl) (by kernel_rfl) (by kernel_rfl) (fun _ _ _ h => h) (by rfl) ?_ ?_
    · intro W hW; go_simp; try with_reducible rfl
    try simp only [Act.put, List.getElem_toArray, List.getElem_cons_succ, List.getElem_cons_zero, List.setIfInBounds_toArray, List.set_cons_zero, List.set_cons_succ]
    refine reg_take (v := .bool false) hR 15 rfl (by kernel_rfl) (by kernel_rfl) (by kernel_rfl) (fun _ _ _ h => h) (by rfl) ?_ ?_
    · intro W hW; go_simp; try with_reducible rfl
    try simp only [Act.put, List.getElem_toArray, List.getElem_cons_succ, List.getElem_cons_zero, List.setIfInBounds_toArray, List.set_cons_zero, List.set_cons_succ]
    refine reg_done (by kernel_rfl) ?_ _
    go_wp2_with fail
    refine (Own_any w13 HL13.out.rd (by omega)).mono ?_; rintro e w14 ⟨v14, rfl, ho14, hb⟩
    obtain ⟨g, cap, rfl, hg1, hg2⟩ := World.ownsRow.form ho14 (show 0 < b.length by have := HBL.out; omega)
    have HB14 := Lib.hid (HB13.out.keep hb)
    have HO14 := Lib.hid ho14
    have hb9 : 1 ≤ b.length := by have := HBL.out; omega
    have hz13 := HB13.out.lt
    have HB13' := HB13
    have HBb := Lib.hid hb
    clear hb ho14 HB13 HN13 HO13 HL13 HB14
    go_wp2_with fail
    refine (Pick_any at_ b.length hb9 (by omega) w14).mono ?_; rintro e w' ⟨⟨p, hp, rfl⟩, rfl⟩
    have hbx : b[p]? = some b[p] := List.getElem?_eq_getElem hp
    have hcp : w14.cell? ⟨g, p, none⟩ = some (.int .u8 (b[p].toNat : Int)) := by
      have := World.ownsRow.cellAt HO14.out p (by omega)
      rw [this, cs8, List.getElem?_map, hbx]
      rfl
    have hfp := World.ownsRow.frozenAt HO14.out p
    have hxr := u8_xor_nat b[p].toNat by_.toNat b[p].toNat_lt by_.toNat_lt
    have hst := World.ownsRow.stored HO14.out p (B8 (b[p] ^^^ by_))
    have HO15 : Hid (Ow (w14.setCell ⟨g, p, none⟩ (B8 (b[p] ^^^ by_))) w13.heap.size (.slice (some ⟨g, 0, none⟩) b.length cap) (b.set p (b[p] ^^^ by_))) := Lib.hid (by
      have := hst.1
      unfold Ow
      rw [List.length_set]
      rw [show cs8 (b.set p (b[p] ^^^ by_)) = (cs8 b).set p (B8 (b[p] ^^^ by_)) from by rw [cs8, cs8, List.map_set]]
      exact this)
    have hbb : Below w13.heap.size w14 (w14.setCell ⟨g, p, none⟩ (B8 (b[p] ^^^ by_))) := (Below.refl _ _).setCell hg1 _
    have HB15 : Hid (Bx w (w14.setCell ⟨g, p, none⟩ (B8 (b[p] ^^^ by_))) C D k A n c l) := Lib.hid (by
      have h := HB13'.out
      have hb2 := HBb.out.trans hbb
      exact h.keep hb2)
    rw [B8, UInt8.toNat_xor, ← hxr] at HO15 HB15
    have hTl : (b.set p (b[p] ^^^ by_)).length = b.length := List.length_set
    have hT0 : by_ = 0 → b.set p (b[p] ^^^ by_) = b := fun e => by rw [e, UInt8.xor_zero, List.set_getElem_self]
    have hT1 : by_ ≠ 0 → b.set p (b[p] ^^^ by_) ≠ b := fun e h => e (by
      have h2 : (b.set p (b[p] ^^^ by_))[p]? = b[p]? := by rw [h]
      rw [List.getElem?_set_self hp, hbx] at h2
      injection h2 with h2
      have h3 := congrArg (fun x => b[p] ^^^ x) h2
      simpa [← UInt8.xor_assoc] using h3)
    clear hxr hbx hst hbb HBb HB13' HO14
    generalize b[p] = bp at *
    generalize b.set p (bp ^^^ by_) = T at *
    have HTl := Lib.hid hTl
    clear hTl
    have hgl := HO15.out
    have hs15 := hgl.sl HTl.out
    obtain ⟨A15, c15, e15, hs15⟩ := hs15
    injection e15 with e151 e152 e153
    subst e151 e153
    have HS15 := Lib.hid hs15
    clear e152 hs15 hgl
    by_cases hby : by_ = 0
    · obtain rfl : T = b := hT0 hby
      clear hT0 hT1
      subst hby
      rw [show ((0 : UInt8).toNat : Int) = 0 from rfl] at *
      go_wp2_with (first | (refine wpList_load_at rfl 23 _ rfl ⟨w.heap.size + 1, 0, none⟩ rfl (cs8 C) _ HB15.out.hc.at_ Try.underlying23 rfl (by rw [HC8.out]; exact info36) ?_) | fail)
      generalize w14.setCell _ _ = w15 at HB15 HO15 HS15 ⊢
      refine (HRd.out w15 _ _ HS15.out.rd).mono ?_; rintro e w16 ⟨A16, n16, c16, rfl, ho16, hb⟩
      have HB16 := Lib.hid (HB15.out.keep hb)
      have hl2 := lay2 w16 [.int .u8 (k.toNat : Int), .slice A16 n16 c16] (cs8 SC)
      have HB17 := Lib.hid (HB16.out.keep hl2.bel)
      clear hl2 hb ho16 HO15 HS15
      go_wp2_with (first | (refine wpList_alloc_z rfl 23 rfl z36 zero36 ?_) | (refine wpList_store_bk rfl 23 _ _ rfl (w16.heap.size + 1) rfl (cs8 SC) z36 rfl (bk_lay w16 _) (by rw [HSC8.out]; exact info36) (by rw [HSC8.out]; exact len_z36) (cs8_all _) ?_))
      go_ret
      exact ⟨rfl, HB17.out.bel⟩
    · have hbz := k_ne hby
      have hbz2 : ((by_.toNat : Int) != 0) = true := by rw [bne, hbz]; rfl
      have hbz3 : ¬ by_.toNat = 0 := by simpa using hbz
      have HT1 := Lib.hid (hT1 hby)
      clear hT0 hT1 hby
      by_cases hG : readErr C T = 0
      · obtain ⟨k', d', t', hv', he'⟩ := read_ex C T hG
        have HNE := Lib.hid (HT.out T HTl.out HT1.out hG k' d' t' hv' he')
        have HRT := Lib.hid (fun (W : World) (h : Rd W W.heap.size (some ⟨g, 0, none⟩) b.length cap T) => Read_good W hC h (by omega) k' d' t' hv' he')
        have HBT := Lib.hid (fun (W : World) (B : Option Addr) (q : Nat) (h : Rd W W.heap.size B d'.length q d') => Bytes_good W hC h hv'.1 hv'.2)
        have HS' := Lib.hid (show (cs8 (nextR C k' d')).length = 32 by rw [cs8_length, nextR_length])
        have hzl : (recB C k' d').length ≤ T.length := by rw [he', List.length_append]; omega
        have HZT := Lib.hid (show T.take (recB C k' d').length = recB C k' d' by rw [he', List.take_left])
        generalize nextR C k' d' = S' at HRT HBT HS'
        generalize recB C k' d' = z at HRT HBT hzl HZT
        clear hG hv' he'
        rw [HTl.out] at hzl
        go_wp2_with (first | (refine wpList_load_at rfl 23 _ rfl ⟨w.heap.size + 1, 0, none⟩ rfl (cs8 C) _ HB15.out.hc.at_ Try.underlying23 rfl (by rw [HC8.out]; exact info36) ?_) | fail)
        generalize w14.setCell _ _ = w15 at HB15 HO15 HS15 ⊢
        refine (HRT.out w15 HS15.out.rd).mono ?_; rintro e w16 ⟨A16, n16, c16, rfl, ho16, hb⟩
        obtain ⟨A17, c17, e17, hr17⟩ := ho16.rdN rfl
        injection e17 with e171 e172 e173
        subst e171 e172 e173
        have HB16 := Lib.hid (HB15.out.keep hb)
        have HS16 := Lib.hid ((HS15.out.below hb).more hb.size)
        have hl2 := lay2 w16 [.int .u8 (k'.toNat : Int), .slice A16 d'.length c16] (cs8 S')
        have HB17 := Lib.hid (HB16.out.keep hl2.bel)
        have HS17 := Lib.hid ((HS16.out.below hl2.bel).more hl2.bel.size)
        have HY17 := Lib.hid hl2.r
        have HD17 := Lib.hid (hr17.top hl2.bel)
        clear hl2 hb ho16 HO15 HS15 HB15 HS16
        have hc0 := HY17.out.cell (k := 0) rfl
        have hc1 := HY17.out.cell (k := 1) rfl
        go_wp2_with (first | (refine wpList_alloc_z rfl 23 rfl z36 zero36 ?_) | (refine wpList_store_bk rfl 23 _ _ rfl (w16.heap.size + 1) rfl (cs8 S') z36 rfl (bk_lay w16 _) (by rw [HS'.out]; exact info36) (by rw [HS'.out]; exact len_z36) (cs8_all _) ?_) | (refine wpList_load_at rfl 23 _ rfl ⟨w.heap.size + 1, 0, none⟩ rfl (cs8 C) _ HB17.out.hc.at_ Try.underlying23 rfl (by rw [HC8.out]; exact info36) ?_))
        generalize ((w16.alloc (.cells [.int .u8 (k'.toNat : Int), .slice A16 d'.length c16].toArray 31)).alloc (.cells z36.toArray 23)).setRow (w16.heap.size + 1) (cs8 S').toArray = w17 at HB17 HS17 HY17 HD17 hc0 hc1 ⊢
        generalize w16.heap.size = by1 at HY17 hc0 hc1 ⊢
        refine (HBT.out w17 _ _ HD17.out).mono ?_; rintro e w18 ⟨v18, rfl, ho18, hb⟩
        obtain ⟨A18, c18, rfl, hl18⟩ := ho18.sl rfl
        have HB18 := Lib.hid (HB17.out.keep hb)
        have HS18 := Lib.hid ((HS17.out.below hb).more hb.size)
        have HY18 := Lib.hid (HY17.out.keep hb)
        have HD18 := Lib.hid (HD17.out.top hb)
        have HZ18 := Lib.hid hl18
        clear hb ho18 hl18 HB17 HS17 HY17 HD17 hc0 hc1
        have hl1 := lay1 w18 (cs8 S')
        have HB19 := Lib.hid (HB18.out.keep hl1.1)
        have HS19 := Lib.hid ((HS18.out.below hl1.1).more hl1.1.size)
        have HY19 := Lib.hid (HY18.out.keep hl1.1)
        have HD19 := Lib.hid (HD18.out.top hl1.1)
        have HZ19 := Lib.hid ((HZ18.out.below hl1.1).more hl1.1.size)
        clear hl1
        go_wp2_with (first | (refine wpList_alloc_z rfl 23 rfl z36 zero36 ?_) | (refine wpList_store_bk rfl 23 _ _ rfl w18.heap.size rfl (cs8 S') z36 rfl (Bk.new w18 z36 23) (by rw [HS'.out]; exact info36) (by rw [HS'.out]; exact len_z36) (cs8_all _) ?_))
        generalize (w18.alloc (.cells z36.toArray 23)).setRow w18.heap.size (cs8 S').toArray = w19 at HB19 HS19 HY19 HD19 HZ19 ⊢
        clear HB18 HS18 HY18 HD18 HZ18
        have hR := Old.stays
        refine reg_start Old follows_mixed ?_
        have HB20 := Lib.hid (HB19.out.keep (Below.refl _ w19).drew)
        have HS20 : Hid (Sl w19.drew w19.drew.heap.size (some ⟨g, 0, none⟩) b.length cap T) := Lib.hid (HS19.out.below (Below.refl _ w19).drew)
        have HY20 := Lib.hid HY19.out.drew
        have HD20 : Hid (Rd w19.drew w19.drew.heap.size A16 d'.length c16 d') := Lib.hid (HD19.out.below (Below.refl _ w19).drew)
        have HZ20 : Hid (Sl w19.drew w19.drew.heap.size A18 z.length c18 z) := Lib.hid (HZ19.out.below (Below.refl _ w19).drew)
        clear HB19 HS19 HY19 HD19 HZ19
        generalize w19.drew = w20 at HB20 HS20 HY20 HD20 HZ20 ⊢
        generalize w18.heap.size = by2
        refine reg_take (v := .int .i64 0) hR 0 rfl (by kernel_rfl) (by kernel_rfl) (by kernel_rfl) (fun _ _ _ h => h) (by rfl) ?_ ?_
        · intro W hW; go_simp; try with_reducible rfl
        try simp only [Act.put, List.getElem_toArray, List.getElem_cons_succ, List.getElem_cons_zero, List.setIfInBounds_toArray, List.set_cons_zero, List.set_cons_succ]
        refine reg_take (v := .bool true) hR 1 rfl (by kernel_rfl) (by kernel_rfl) (by kernel_rfl) (fun _ _ _ h => h) (by rfl) ?_ ?_
        · intro W hW; go_simp; try with_reducible rfl
        try simp only [Act.put, List.getElem_toArray, List.getElem_cons_succ, List.getElem_cons_zero, List.setIfInBounds_toArray, List.set_cons_zero, List.set_cons_succ]
        refine reg_take (v := .bool true) hR 2 rfl (by kernel_rfl) (by kernel_rfl) (by kernel_rfl) (fun _ _ _ h => h) (by rfl) ?_ ?_
        · intro W hW; go_simp; try with_reducible rfl
        try simp only [Act.put, List.getElem_toArray, List.getElem_cons_succ, List.getElem_cons_zero, List.setIfInBounds_toArray, List.set_cons_zero, List.set_cons_succ]
        refine reg_take (v := .slice A18 z.length c18) hR 3 rfl (by kernel_rfl) (by kernel_rfl) (by kernel_rfl) (fun _ _ _ h => h) (by rfl) ?_ ?_
        · intro W hW; go_simp; try with_reducible rfl
        try simp only [Act.put, List.getElem_toArray, List.getElem_cons_succ, List.getElem_cons_zero, List.setIfInBounds_toArray, List.set_cons_zero, List.set_cons_succ]
        refine reg_take (v := .string (str z)) hR 4 rfl (by kernel_rfl) (by kernel_rfl) (by kernel_rfl) (fun _ _ _ h => h) (by rfl) ?_ ?_
        · intro W hW; exact exec_conv_str _ rfl rfl (HZ20.out.rd.below hW)
        try simp only [Act.put, List.getElem_toArray, List.getElem_cons_succ, List.getElem_cons_zero, List.setIfInBounds_toArray, List.set_cons_zero, List.set_cons_succ]
        refine reg_take (v := .slice (some ⟨g, 0, none⟩) b.length cap) hR 5 rfl (by kernel_rfl) (by kernel_rfl) (by kernel_rfl) (fun _ _ _ h => h) (by rfl) ?_ ?_
        · intro W hW; go_simp; try with_reducible rfl
        try simp only [Act.put, List.getElem_toArray, List.getElem_cons_succ, List.getElem_cons_zero, List.setIfInBounds_toArray, List.set_cons_zero, List.set_cons_succ]
        refine reg_take (v := .int .i64 (z.length : Int)) hR 6 rfl (by kernel_rfl) (by kernel_rfl) (by kernel_rfl) (fun _ _ _ h => h) (by rfl) ?_ ?_
        · intro W hW; go_simp; try with_reducible rfl
        try simp only [Act.put, List.getElem_toArray, List.getElem_cons_succ, List.getElem_cons_zero, List.setIfInBounds_toArray, List.set_cons_zero, List.set_cons_succ]
        refine reg_take (v := .slice (some ⟨g, 0, none⟩) z.length cap) hR 7 rfl (by kernel_rfl) (by kernel_rfl) (by kernel_rfl) (fun _ _ _ h => h) (by rfl) ?_ ?_
        · intro W hW; exact exec_slice31_hi _ _ rfl rfl rfl (by have := HS20.out.rd.cap; omega) rfl
        try simp only [Act.put, List.getElem_toArray, List.getElem_cons_succ, List.getElem_cons_zero, List.setIfInBounds_toArray, List.set_cons_zero, List.set_cons_succ]
        refine reg_take (v := .string (str (T.take z.length))) hR 8 rfl (by kernel_rfl) (by kernel_rfl) (by kernel_rfl) (fun _ _ _ h => h) (by rfl) ?_ ?_
        · intro W hW; exact exec_conv_str _ rfl rfl ((HS20.out.rd.below hW).take_ (k := z.length) (by omega))
        try simp only [Act.put, List.getElem_toArray, List.getElem_cons_succ, List.getElem_cons_zero, List.setIfInBounds_toArray, List.set_cons_zero, List.set_cons_succ]
        refine reg_take (v := .bool true) hR 9 rfl (by kernel_rfl) (by kernel_rfl) (by kernel_rfl) (fun _ _ _ h => h) (by rfl) ?_ ?_
        · intro W hW; exact exec_eq_str _ _ rfl rfl rfl (by rw [HZT.out]; simp)
        try simp only [Act.put, List.getElem_toArray, List.getElem_cons_succ, List.getElem_cons_zero, List.setIfInBounds_toArray, List.set_cons_zero, List.set_cons_succ]
        refine reg_take (v := .bool true) hR 10 rfl (by kernel_rfl) (by kernel_rfl) (by kernel_rfl) (fun _ _ _ h => h) (by rfl) ?_ ?_
        · intro W hW; go_simp; try with_reducible rfl
        try simp only [Act.put, List.getElem_toArray, List.getElem_cons_succ, List.getElem_cons_zero, List.setIfInBounds_toArray, List.set_cons_zero, List.set_cons_succ]
        refine reg_take (v := .bool true) hR 11 rfl (by kernel_rfl) (by kernel_rfl) (by kernel_rfl) (fun _ _ _ h => h) (by rfl) ?_ ?_
        · intro W hW; go_simp; try with_reducible rfl
        try simp only [Act.put, List.getElem_toArray, List.getElem_cons_succ, List.getElem_cons_zero, List.setIfInBounds_toArray, List.set_cons_zero, List.set_cons_succ]
        refine reg_take (v := .agg #[.int .u8 (k'.toNat : Int), .slice A16 d'.length c16]) hR 12 rfl (by kernel_rfl) (by kernel_rfl) (by kernel_rfl) (fun _ _ _ h => h) (by rfl) ?_ ?_
        · intro W hW; exact exec_load_at 31 _ rfl ⟨by1, 0, none⟩ rfl [.int .u8 (k'.toNat : Int), .slice A16 d'.length c16] _ (HY20.out.keep hW).at_ Try.underlying31 rfl info31
        try simp only [Act.put, List.getElem_toArray, List.getElem_cons_succ, List.getElem_cons_zero, List.setIfInBounds_toArray, List.set_cons_zero, List.set_cons_succ]
        refine reg_take (v := .agg #[.int .u8 (k.toNat : Int), .slice A n c]) hR 13 rfl (by kernel_rfl) (by kernel_rfl) (by kernel_rfl) (fun _ _ _ h => h) (by rfl) ?_ ?_
        · intro W hW; exact exec_load_at 31 _ rfl ⟨w.heap.size, 0, none⟩ rfl [.int .u8 (k.toNat : Int), .slice A n c] _ (HB20.out.hr.keep hW).at_ Try.underlying31 rfl info31
        try simp only [Act.put, List.getElem_toArray, List.getElem_cons_succ, List.getElem_cons_zero, List.setIfInBounds_toArray, List.set_cons_zero, List.set_cons_succ]
        refine reg_step hR 14 (by kernel_rfl) rfl fun K hK => ?_
        try simp only [Act.put, List.getElem_toArray, List.getElem_cons_succ, List.getElem_cons_zero, List.setIfInBounds_toArray, List.set_cons_zero, List.set_cons_succ]
        go_simp
        refine (Rec_no w20 HD20.out HB20.out.rd HNE.out).mono ?_; rintro e w21 ⟨rfl, hb⟩
        have HB21 := Lib.hid (HB20.out.keep hb)
        refine hK.out _ _ hb ?_
        clear hb
        clear hK K
        try simp only [Act.put, List.getElem_toArray, List.getElem_cons_succ, List.getElem_cons_zero, List.setIfInBounds_toArray, List.set_cons_zero, List.set_cons_succ]
        refine reg_take (v := .bool true) hR 15 rfl (by kernel_rfl) (by kernel_rfl) (by kernel_rfl) (fun _ _ _ h => h) (by rfl) ?_ ?_
        · intro W hW; go_simp; try with_reducible rfl
        try simp only [Act.put, List.getElem_toArray, List.getElem_cons_succ, List.getElem_cons_zero, List.setIfInBounds_toArray, List.set_cons_zero, List.set_cons_succ]
        refine reg_take (v := .bool true) hR 16 rfl (by kernel_rfl) (by kernel_rfl) (by kernel_rfl) (fun _ _ _ h => h) (by rfl) ?_ ?_
        · intro W hW; go_simp; try with_reducible rfl
        try simp only [Act.put, List.getElem_toArray, List.getElem_cons_succ, List.getElem_cons_zero, List.setIfInBounds_toArray, List.set_cons_zero, List.set_cons_succ]
        refine reg_take (v := .bool true) hR 17 rfl (by kernel_rfl) (by kernel_rfl) (by kernel_rfl) (fun _ _ _ h => h) (by rfl) ?_ ?_
        · intro W hW; go_simp; try with_reducible rfl
        try simp only [Act.put, List.getElem_toArray, List.getElem_cons_succ, List.getElem_cons_zero, List.setIfInBounds_toArray, List.set_cons_zero, List.set_cons_succ]
        refine reg_done (by kernel_rfl) ?_ _
        go_wp2
        go_ret
        exact ⟨rfl, HB21.out.bel⟩
      · have HRT := Lib.hid (fun (W : World) (h : Rd W W.heap.size (some ⟨g, 0, none⟩) b.length cap T) => Read_fail W hC h (by omega) hG)
        have hgz : (readErr C T == 0) = false := by rw [beq_eq_false_iff_ne]; exact hG
        generalize readErr C T = G at HRT hgz
        have hgz2 : (G != 0) = true := by rw [bne, hgz]; rfl
        have hgz3 : ¬ G = 0 := by simpa using hgz
        clear hG
        go_wp2_with (first | (refine wpList_load_at rfl 23 _ rfl ⟨w.heap.size + 1, 0, none⟩ rfl (cs8 C) _ HB15.out.hc.at_ Try.underlying23 rfl (by rw [HC8.out]; exact info36) ?_) | fail)
        generalize w14.setCell _ _ = w15 at HB15 HO15 HS15 ⊢
        refine (HRT.out w15 HS15.out.rd).mono ?_; rintro e w16 ⟨rfl, hb⟩
        have HB16 := Lib.hid (HB15.out.keep hb)
        have hl2 := lay2 w16 [.int .u8 0, .slice none 0 0] z36
        have HB17 := Lib.hid (HB16.out.keep hl2.bel)
        clear hl2 hb HO15 HS15
        go_wp2_with (first | (refine wpList_alloc_z rfl 23 rfl z36 zero36 ?_) | (refine wpList_store_bk rfl 23 _ _ rfl (w16.heap.size + 1) rfl z36 z36 rfl (bk_lay w16 _) (by kernel_rfl) rfl all_z36 ?_))
        go_ret
        exact ⟨rfl, HB17.out.bel⟩
  · skip
    refine reg_take (v := .int .i64 0) hR 0 rfl (by kernel_rfl) (by kernel_rfl) (by kernel_rfl) (fun _ _ _ h => h) (by rfl) ?_ ?_
    · intro W hW; go_simp; try with_reducible rfl
    try simp only [Act.put, List.getElem_toArray, List.getElem_cons_succ, List.getElem_cons_zero, List.setIfInBounds_toArray, List.set_cons_zero, List.set_cons_succ]
    refine reg_take (v := .bool true) hR 1 rfl (by kernel_rfl) (by kernel_rfl) (by kernel_rfl) (fun _ _ _ h => h) (by rfl) ?_ ?_
    · intro W hW; go_simp; try with_reducible rfl
    try simp only [Act.put, List.getElem_toArray, List.getElem_cons_succ, List.getElem_cons_zero, List.setIfInBounds_toArray, List.set_cons_zero, List.set_cons_succ]
    refine reg_take (v := .slice (some ⟨bo, 0, none⟩) 8 32) hR 2 rfl (by kernel_rfl) (by kernel_rfl) (by kernel_rfl) (fun _ _ _ h => h) (by rfl) ?_ ?_
    · intro W hW; exact exec_slice_hi _ _ rfl rfl rfl Try.underlying23 (by decide) (by decide)
    try simp only [Act.put, List.getElem_toArray, List.getElem_cons_succ, List.getElem_cons_zero, List.setIfInBounds_toArray, List.set_cons_zero, List.set_cons_succ]
    refine reg_take (v := .string (str (List.take 8 SD))) hR 3 rfl (by kernel_rfl) (by kernel_rfl) (by kernel_rfl) (fun _ _ _ h => h) (by rfl) ?_ ?_
    · intro W hW; exact exec_conv_str _ rfl rfl (((HO13.out.keep hW).sl HSD.out).rd.take_ (k := 8) (by decide))
    try simp only [Act.put, List.getElem_toArray, List.getElem_cons_succ, List.getElem_cons_zero, List.setIfInBounds_toArray, List.set_cons_zero, List.set_cons_succ]
    refine reg_take (v := .slice (some ⟨bn, 0, none⟩) 8 32) hR 4 rfl (by kernel_rfl) (by kernel_rfl) (by kernel_rfl) (fun _ _ _ h => h) (by rfl) ?_ ?_
    · intro W hW; exact exec_slice_hi _ _ rfl rfl rfl Try.underlying23 (by decide) (by decide)
    try simp only [Act.put, List.getElem_toArray, List.getElem_cons_succ, List.getElem_cons_zero, List.setIfInBounds_toArray, List.set_cons_zero, List.set_cons_succ]
    refine reg_take (v := .string (str (List.take 8 SC))) hR 5 rfl (by kernel_rfl) (by kernel_rfl) (by kernel_rfl) (fun _ _ _ h => h) (by rfl) ?_ ?_
    · intro W hW; exact exec_conv_str _ rfl rfl (((HN13.out.keep hW).sl HSC.out).rd.take_ (k := 8) (by decide))
    try simp only [Act.put, List.getElem_toArray, List.getElem_cons_succ, List.getElem_cons_zero, List.setIfInBounds_toArray, List.set_cons_zero, List.set_cons_succ]
    refine reg_take (v := .bool true) hR 6 rfl (by kernel_rfl) (by kernel_rfl) (by kernel_rfl) (fun _ _ _ h => h) (by rfl) ?_ ?_
    · intro W hW; exact exec_eq_str _ _ rfl rfl rfl HQ.out
    try simp only [Act.put, List.getElem_toArray, List.getElem_cons_succ, List.getElem_cons_zero, List.setIfInBounds_toArray, List.set_cons_zero, List.set_cons_succ]
    refine reg_take (v := .bool false) hR 7 rfl (by kernel_rfl) (by kernel_rfl) (by kernel_rfl) (fun _ _ _ h => h) (by rfl) ?_ ?_
    · intro W hW; go_simp; try with_reducible rfl
    try simp only [Act.put, List.getElem_toArray, List.getElem_cons_succ, List.getElem_cons_zero, List.setIfInBounds_toArray, List.set_cons_zero, List.set_cons_succ]
    refine reg_take (v := .bool false) hR 8 rfl (by kernel_rfl) (by kernel_rfl) (by kernel_rfl) (fun _ _ _ h => h) (by rfl) ?_ ?_
    · intro W hW; go_simp; try with_reducible rfl
    try simp only [Act.put, List.getElem_toArray, List.getElem_cons_succ, List.getElem_cons_zero, List.setIfInBounds_toArray, List.set_cons_zero, List.set_cons_succ]
    refine reg_take (v := .int .i64 0) hR 9 rfl (by kernel_rfl) (by kernel_rfl) (by kernel_rfl) (fun _ _ _ h => h) (by rfl) ?_ ?_
    · intro W hW; go_simp; try with_reducible rfl
    try simp only [Act.put, List.getElem_toArray, List.getElem_cons_succ, List.getElem_cons_zero, List.setIfInBounds_toArray, List.set_cons_zero, List.set_cons_succ]
    refine reg_take (v := .bool false) hR 10 rfl (by kernel_rfl) (by kernel_rfl) (by kernel_rfl) (fun _ _ _ h => h) (by rfl) ?_ ?_
    · intro W hW; go_simp; try with_reducible rfl
    try simp only [Act.put, List.getElem_toArray, List.getElem_cons_succ, List.getElem_cons_zero, List.setIfInBounds_toArray, List.set_cons_zero, List.set_cons_succ]
    refine reg_take (v := .bool false) hR 11 rfl (by kernel_rfl) (by kernel_rfl) (by kernel_rfl) (fun _ _ _ h => h) (by rfl) ?_ ?_
    · intro W hW; go_simp; try with_reducible rfl
    try simp only [Act.put, List.getElem_toArray, List.getElem_cons_succ, List.getElem_cons_zero, List.setIfInBounds_toArray, List.set_cons_zero, List.set_cons_succ]
    refine reg_skip hR 12 rfl (by kernel_rfl) (by kernel_rfl) (by kernel_rfl) (fun _ _ _ h => h) (by rfl) ?_
    try simp only [Act.put, List.getElem_toArray, List.getElem_cons_succ, List.getElem_cons_zero, List.setIfInBounds_toArray, List.set_cons_zero, List.set_cons_succ]
    refine reg_skip hR 13 rfl (by kernel_rfl) (by kernel_rfl) (by kernel_rfl) (fun _ _ _ h => h) (by rfl) ?_
    try simp only [Act.put, List.getElem_toArray, List.getElem_cons_succ, List.getElem_cons_zero, List.setIfInBounds_toArray, List.set_cons_zero, List.set_cons_succ]
    refine reg_take (v := .bool false) hR 14 rfl (by kernel_rfl) (by kernel_rfl) (by kernel_rfl) (fun _ _ _ h => h) (by rfl) ?_ ?_
    · intro W hW; go_simp; try with_reducible rfl
    try simp only [Act.put, List.getElem_toArray, List.getElem_cons_succ, List.getElem_cons_zero, List.setIfInBounds_toArray, List.set_cons_zero, List.set_cons_succ]
    refine reg_take (v := .bool false) hR 15 rfl (by kernel_rfl) (by kernel_rfl) (by kernel_rfl) (fun _ _ _ h => h) (by rfl) ?_ ?_
    · intro W hW; go_simp; try with_reducible rfl
    try simp only [Act.put, List.getElem_toArray, List.getElem_cons_succ, List.getElem_cons_zero, List.setIfInBounds_toArray, List.set_cons_zero, List.set_cons_succ]
    refine reg_done (by kernel_rfl) ?_ _
    go_wp2_with fail
    refine (Own_any w13 HL13.out.rd (by omega)).mono ?_; rintro e w14 ⟨v14, rfl, ho14, hb⟩
    obtain ⟨g, cap, rfl, hg1, hg2⟩ := World.ownsRow.form ho14 (show 0 < b.length by have := HBL.out; omega)
    have HB14 := Lib.hid (HB13.out.keep hb)
    have HO14 := Lib.hid ho14
    have hb9 : 1 ≤ b.length := by have := HBL.out; omega
    have hz13 := HB13.out.lt
    have HB13' := HB13
    have HBb := Lib.hid hb
    clear hb ho14 HB13 HN13 HO13 HL13 HB14
    go_wp2_with fail
    refine (Pick_any at_ b.length hb9 (by omega) w14).mono ?_; rintro e w' ⟨⟨p, hp, rfl⟩, rfl⟩
    have hbx : b[p]? = some b[p] := List.getElem?_eq_getElem hp
    have hcp : w14.cell? ⟨g, p, none⟩ = some (.int .u8 (b[p].toNat : Int)) := by
      have := World.ownsRow.cellAt HO14.out p (by omega)
      rw [this, cs8, List.getElem?_map, hbx]
      rfl
    have hfp := World.ownsRow.frozenAt HO14.out p
    have hxr := u8_xor_nat b[p].toNat by_.toNat b[p].toNat_lt by_.toNat_lt
    have hst := World.ownsRow.stored HO14.out p (B8 (b[p] ^^^ by_))
    have HO15 : Hid (Ow (w14.setCell ⟨g, p, none⟩ (B8 (b[p] ^^^ by_))) w13.heap.size (.slice (some ⟨g, 0, none⟩) b.length cap) (b.set p (b[p] ^^^ by_))) := Lib.hid (by
      have := hst.1
      unfold Ow
      rw [List.length_set]
      rw [show cs8 (b.set p (b[p] ^^^ by_)) = (cs8 b).set p (B8 (b[p] ^^^ by_)) from by rw [cs8, cs8, List.map_set]]
      exact this)
    have hbb : Below w13.heap.size w14 (w14.setCell ⟨g, p, none⟩ (B8 (b[p] ^^^ by_))) := (Below.refl _ _).setCell hg1 _
    have HB15 : Hid (Bx w (w14.setCell ⟨g, p, none⟩ (B8 (b[p] ^^^ by_))) C D k A n c l) := Lib.hid (by
      have h := HB13'.out
      have hb2 := HBb.out.trans hbb
      exact h.keep hb2)
    rw [B8, UInt8.toNat_xor, ← hxr] at HO15 HB15
    have hTl : (b.set p (b[p] ^^^ by_)).length = b.length := List.length_set
    have hT0 : by_ = 0 → b.set p (b[p] ^^^ by_) = b := fun e => by rw [e, UInt8.xor_zero, List.set_getElem_self]
    have hT1 : by_ ≠ 0 → b.set p (b[p] ^^^ by_) ≠ b := fun e h => e (by
      have h2 : (b.set p (b[p] ^^^ by_))[p]? = b[p]? := by rw [h]
      rw [List.getElem?_set_self hp, hbx] at h2
      injection h2 with h2
      have h3 := congrArg (fun x => b[p] ^^^ x) h2
      simpa [← UInt8.xor_assoc] using h3)
    clear hxr hbx hst hbb HBb HB13' HO14
    generalize b[p] = bp at *
    generalize b.set p (bp ^^^ by_) = T at *
    have HTl := Lib.hid hTl
    clear hTl
    have hgl := HO15.out
    have hs15 := hgl.sl HTl.out
    obtain ⟨A15, c15, e15, hs15⟩ := hs15
    injection e15 with e151 e152 e153
    subst e151 e153
    have HS15 := Lib.hid hs15
    clear e152 hs15 hgl
    by_cases hby : by_ = 0
    · obtain rfl : T = b := hT0 hby
      clear hT0 hT1
      subst hby
      rw [show ((0 : UInt8).toNat : Int) = 0 from rfl] at *
      go_wp2_with (first | (refine wpList_load_at rfl 23 _ rfl ⟨w.heap.size + 1, 0, none⟩ rfl (cs8 C) _ HB15.out.hc.at_ Try.underlying23 rfl (by rw [HC8.out]; exact info36) ?_) | fail)
      generalize w14.setCell _ _ = w15 at HB15 HO15 HS15 ⊢
      refine (HRd.out w15 _ _ HS15.out.rd).mono ?_; rintro e w16 ⟨A16, n16, c16, rfl, ho16, hb⟩
      have HB16 := Lib.hid (HB15.out.keep hb)
      have hl2 := lay2 w16 [.int .u8 (k.toNat : Int), .slice A16 n16 c16] (cs8 SC)
      have HB17 := Lib.hid (HB16.out.keep hl2.bel)
      clear hl2 hb ho16 HO15 HS15
      go_wp2_with (first | (refine wpList_alloc_z rfl 23 rfl z36 zero36 ?_) | (refine wpList_store_bk rfl 23 _ _ rfl (w16.heap.size + 1) rfl (cs8 SC) z36 rfl (bk_lay w16 _) (by rw [HSC8.out]; exact info36) (by rw [HSC8.out]; exact len_z36) (cs8_all _) ?_))
      go_ret
      exact ⟨rfl, HB17.out.bel⟩
    · have hbz := k_ne hby
      have hbz2 : ((by_.toNat : Int) != 0) = true := by rw [bne, hbz]; rfl
      have hbz3 : ¬ by_.toNat = 0 := by simpa using hbz
      have HT1 := Lib.hid (hT1 hby)
      clear hT0 hT1 hby
      by_cases hG : readErr C T = 0
      · obtain ⟨k', d', t', hv', he'⟩ := read_ex C T hG
        have HNE := Lib.hid (HT.out T HTl.out HT1.out hG k' d' t' hv' he')
        have HRT := Lib.hid (fun (W : World) (h : Rd W W.heap.size (some ⟨g, 0, none⟩) b.length cap T) => Read_good W hC h (by omega) k' d' t' hv' he')
        have HBT := Lib.hid (fun (W : World) (B : Option Addr) (q : Nat) (h : Rd W W.heap.size B d'.length q d') => Bytes_good W hC h hv'.1 hv'.2)
        have HS' := Lib.hid (show (cs8 (nextR C k' d')).length = 32 by rw [cs8_length, nextR_length])
        have hzl : (recB C k' d').length ≤ T.length := by rw [he', List.length_append]; omega
        have HZT := Lib.hid (show T.take (recB C k' d').length = recB C k' d' by rw [he', List.take_left])
        generalize nextR C k' d' = S' at HRT HBT HS'
        generalize recB C k' d' = z at HRT HBT hzl HZT
        clear hG hv' he'
        rw [HTl.out] at hzl
        go_wp2_with (first | (refine wpList_load_at rfl 23 _ rfl ⟨w.heap.size + 1, 0, none⟩ rfl (cs8 C) _ HB15.out.hc.at_ Try.underlying23 rfl (by rw [HC8.out]; exact info36) ?_) | fail)
        generalize w14.setCell _ _ = w15 at HB15 HO15 HS15 ⊢
        refine (HRT.out w15 HS15.out.rd).mono ?_; rintro e w16 ⟨A16, n16, c16, rfl, ho16, hb⟩
        obtain ⟨A17, c17, e17, hr17⟩ := ho16.rdN rfl
        injection e17 with e171 e172 e173
        subst e171 e172 e173
        have HB16 := Lib.hid (HB15.out.keep hb)
        have HS16 := Lib.hid ((HS15.out.below hb).more hb.size)
        have hl2 := lay2 w16 [.int .u8 (k'.toNat : Int), .slice A16 d'.length c16] (cs8 S')
        have HB17 := Lib.hid (HB16.out.keep hl2.bel)
        have HS17 := Lib.hid ((HS16.out.below hl2.bel).more hl2.bel.size)
        have HY17 := Lib.hid hl2.r
        have HD17 := Lib.hid (hr17.top hl2.bel)
        clear hl2 hb ho16 HO15 HS15 HB15 HS16
        have hc0 := HY17.out.cell (k := 0) rfl
        have hc1 := HY17.out.cell (k := 1) rfl
        go_wp2_with (first | (refine wpList_alloc_z rfl 23 rfl z36 zero36 ?_) | (refine wpList_store_bk rfl 23 _ _ rfl (w16.heap.size + 1) rfl (cs8 S') z36 rfl (bk_lay w16 _) (by rw [HS'.out]; exact info36) (by rw [HS'.out]; exact len_z36) (cs8_all _) ?_) | (refine wpList_load_at rfl 23 _ rfl ⟨w.heap.size + 1, 0, none⟩ rfl (cs8 C) _ HB17.out.hc.at_ Try.underlying23 rfl (by rw [HC8.out]; exact info36) ?_))
        generalize ((w16.alloc (.cells [.int .u8 (k'.toNat : Int), .slice A16 d'.length c16].toArray 31)).alloc (.cells z36.toArray 23)).setRow (w16.heap.size + 1) (cs8 S').toArray = w17 at HB17 HS17 HY17 HD17 hc0 hc1 ⊢
        generalize w16.heap.size = by1 at HY17 hc0 hc1 ⊢
        refine (HBT.out w17 _ _ HD17.out).mono ?_; rintro e w18 ⟨v18, rfl, ho18, hb⟩
        obtain ⟨A18, c18, rfl, hl18⟩ := ho18.sl rfl
        have HB18 := Lib.hid (HB17.out.keep hb)
        have HS18 := Lib.hid ((HS17.out.below hb).more hb.size)
        have HY18 := Lib.hid (HY17.out.keep hb)
        have HD18 := Lib.hid (HD17.out.top hb)
        have HZ18 := Lib.hid hl18
        clear hb ho18 hl18 HB17 HS17 HY17 HD17 hc0 hc1
        have hl1 := lay1 w18 (cs8 S')
        have HB19 := Lib.hid (HB18.out.keep hl1.1)
        have HS19 := Lib.hid ((HS18.out.below hl1.1).more hl1.1.size)
        have HY19 := Lib.hid (HY18.out.keep hl1.1)
        have HD19 := Lib.hid (HD18.out.top hl1.1)
        have HZ19 := Lib.hid ((HZ18.out.below hl1.1).more hl1.1.size)
        clear hl1
        go_wp2_with (first | (refine wpList_alloc_z rfl 23 rfl z36 zero36 ?_) | (refine wpList_store_bk rfl 23 _ _ rfl w18.heap.size rfl (cs8 S') z36 rfl (Bk.new w18 z36 23) (by rw [HS'.out]; exact info36) (by rw [HS'.out]; exact len_z36) (cs8_all _) ?_))
        generalize (w18.alloc (.cells z36.toArray 23)).setRow w18.heap.size (cs8 S').toArray = w19 at HB19 HS19 HY19 HD19 HZ19 ⊢
        clear HB18 HS18 HY18 HD18 HZ18
        have hR := Old.stays
        refine reg_start Old follows_mixed ?_
        have HB20 := Lib.hid (HB19.out.keep (Below.refl _ w19).drew)
        have HS20 : Hid (Sl w19.drew w19.drew.heap.size (some ⟨g, 0, none⟩) b.length cap T) := Lib.hid (HS19.out.below (Below.refl _ w19).drew)
        have HY20 := Lib.hid HY19.out.drew
        have HD20 : Hid (Rd w19.drew w19.drew.heap.size A16 d'.length c16 d') := Lib.hid (HD19.out.below (Below.refl _ w19).drew)
        have HZ20 : Hid (Sl w19.drew w19.drew.heap.size A18 z.length c18 z) := Lib.hid (HZ19.out.below (Below.refl _ w19).drew)
        clear HB19 HS19 HY19 HD19 HZ19
        generalize w19.drew = w20 at HB20 HS20 HY20 HD20 HZ20 ⊢
        generalize w18.heap.size = by2
        refine reg_take (v := .int .i64 0) hR 0 rfl (by kernel_rfl) (by kernel_rfl) (by kernel_rfl) (fun _ _ _ h => h) (by rfl) ?_ ?_
        · intro W hW; go_simp; try with_reducible rfl
        try simp only [Act.put, List.getElem_toArray, List.getElem_cons_succ, List.getElem_cons_zero, List.setIfInBounds_toArray, List.set_cons_zero, List.set_cons_succ]
        refine reg_take (v := .bool true) hR 1 rfl (by kernel_rfl) (by kernel_rfl) (by kernel_rfl) (fun _ _ _ h => h) (by rfl) ?_ ?_
        · intro W hW; go_simp; try with_reducible rfl
        try simp only [Act.put, List.getElem_toArray, List.getElem_cons_succ, List.getElem_cons_zero, List.setIfInBounds_toArray, List.set_cons_zero, List.set_cons_succ]
        refine reg_take (v := .bool true) hR 2 rfl (by kernel_rfl) (by kernel_rfl) (by kernel_rfl) (fun _ _ _ h => h) (by rfl) ?_ ?_
        · intro W hW; go_simp; try with_reducible rfl
        try simp only [Act.put, List.getElem_toArray, List.getElem_cons_succ, List.getElem_cons_zero, List.setIfInBounds_toArray, List.set_cons_zero, List.set_cons_succ]
        refine reg_take (v := .slice A18 z.length c18) hR 3 rfl (by kernel_rfl) (by kernel_rfl) (by kernel_rfl) (fun _ _ _ h => h) (by rfl) ?_ ?_
        · intro W hW; go_simp; try with_reducible rfl
        try simp only [Act.put, List.getElem_toArray, List.getElem_cons_succ, List.getElem_cons_zero, List.setIfInBounds_toArray, List.set_cons_zero, List.set_cons_succ]
        refine reg_take (v := .string (str z)) hR 4 rfl (by kernel_rfl) (by kernel_rfl) (by kernel_rfl) (fun _ _ _ h => h) (by rfl) ?_ ?_
        · intro W hW; exact exec_conv_str _ rfl rfl (HZ20.out.rd.below hW)
        try simp only [Act.put, List.getElem_toArray, List.getElem_cons_succ, List.getElem_cons_zero, List.setIfInBounds_toArray, List.set_cons_zero, List.set_cons_succ]
        refine reg_take (v := .slice (some ⟨g, 0, none⟩) b.length cap) hR 5 rfl (by kernel_rfl) (by kernel_rfl) (by kernel_rfl) (fun _ _ _ h => h) (by rfl) ?_ ?_
        · intro W hW; go_simp; try with_reducible rfl
        try simp only [Act.put, List.getElem_toArray, List.getElem_cons_succ, List.getElem_cons_zero, List.setIfInBounds_toArray, List.set_cons_zero, List.set_cons_succ]
        refine reg_take (v := .int .i64 (z.length : Int)) hR 6 rfl (by kernel_rfl) (by kernel_rfl) (by kernel_rfl) (fun _ _ _ h => h) (by rfl) ?_ ?_
        · intro W hW; go_simp; try with_reducible rfl
        try simp only [Act.put, List.getElem_toArray, List.getElem_cons_succ, List.getElem_cons_zero, List.setIfInBounds_toArray, List.set_cons_zero, List.set_cons_succ]
        refine reg_take (v := .slice (some ⟨g, 0, none⟩) z.length cap) hR 7 rfl (by kernel_rfl) (by kernel_rfl) (by kernel_rfl) (fun _ _ _ h => h) (by rfl) ?_ ?_
        · intro W hW; exact exec_slice31_hi _ _ rfl rfl rfl (by have := HS20.out.rd.cap; omega) rfl
        try simp only [Act.put, List.getElem_toArray, List.getElem_cons_succ, List.getElem_cons_zero, List.setIfInBounds_toArray, List.set_cons_zero, List.set_cons_succ]
        refine reg_take (v := .string (str (T.take z.length))) hR 8 rfl (by kernel_rfl) (by kernel_rfl) (by kernel_rfl) (fun _ _ _ h => h) (by rfl) ?_ ?_
        · intro W hW; exact exec_conv_str _ rfl rfl ((HS20.out.rd.below hW).take_ (k := z.length) (by omega))
        try simp only [Act.put, List.getElem_toArray, List.getElem_cons_succ, List.getElem_cons_zero, List.setIfInBounds_toArray, List.set_cons_zero, List.set_cons_succ]
        refine reg_take (v := .bool true) hR 9 rfl (by kernel_rfl) (by kernel_rfl) (by kernel_rfl) (fun _ _ _ h => h) (by rfl) ?_ ?_
        · intro W hW; exact exec_eq_str _ _ rfl rfl rfl (by rw [HZT.out]; simp)
        try simp only [Act.put, List.getElem_toArray, List.getElem_cons_succ, List.getElem_cons_zero, List.setIfInBounds_toArray, List.set_cons_zero, List.set_cons_succ]
        refine reg_take (v := .bool true) hR 10 rfl (by kernel_rfl) (by kernel_rfl) (by kernel_rfl) (fun _ _ _ h => h) (by rfl) ?_ ?_
        · intro W hW; go_simp; try with_reducible rfl
        try simp only [Act.put, List.getElem_toArray, List.getElem_cons_succ, List.getElem_cons_zero, List.setIfInBounds_toArray, List.set_cons_zero, List.set_cons_succ]
        refine reg_take (v := .bool true) hR 11 rfl (by kernel_rfl) (by kernel_rfl) (by kernel_rfl) (fun _ _ _ h => h) (by rfl) ?_ ?_
        · intro W hW; go_simp; try with_reducible rfl
        try simp only [Act.put, List.getElem_toArray, List.getElem_cons_succ, List.getElem_cons_zero, List.setIfInBounds_toArray, List.set_cons_zero, List.set_cons_succ]
        refine reg_take (v := .agg #[.int .u8 (k'.toNat : Int), .slice A16 d'.length c16]) hR 12 rfl (by kernel_rfl) (by kernel_rfl) (by kernel_rfl) (fun _ _ _ h => h) (by rfl) ?_ ?_
        · intro W hW; exact exec_load_at 31 _ rfl ⟨by1, 0, none⟩ rfl [.int .u8 (k'.toNat : Int), .slice A16 d'.length c16] _ (HY20.out.keep hW).at_ Try.underlying31 rfl info31
        try simp only [Act.put, List.getElem_toArray, List.getElem_cons_succ, List.getElem_cons_zero, List.setIfInBounds_toArray, List.set_cons_zero, List.set_cons_succ]
        refine reg_take (v := .agg #[.int .u8 (k.toNat : Int), .slice A n c]) hR 13 rfl (by kernel_rfl) (by kernel_rfl) (by kernel_rfl) (fun _ _ _ h => h) (by rfl) ?_ ?_
        · intro W hW; exact exec_load_at 31 _ rfl ⟨w.heap.size, 0, none⟩ rfl [.int .u8 (k.toNat : Int), .slice A n c] _ (HB20.out.hr.keep hW).at_ Try.underlying31 rfl info31
        try simp only [Act.put, List.getElem_toArray, List.getElem_cons_succ, List.getElem_cons_zero, List.setIfInBounds_toArray, List.set_cons_zero, List.set_cons_succ]
        refine reg_step hR 14 (by kernel_rfl) rfl fun K hK => ?_
        try simp only [Act.put, List.getElem_toArray, List.getElem_cons_succ, List.getElem_cons_zero, List.setIfInBounds_toArray, List.set_cons_zero, List.set_cons_succ]
        go_simp
        refine (Rec_no w20 HD20.out HB20.out.rd HNE.out).mono ?_; rintro e w21 ⟨rfl, hb⟩
        have HB21 := Lib.hid (HB20.out.keep hb)
        refine hK.out _ _ hb ?_
        clear hb
        clear hK K
        try simp only [Act.put, List.getElem_toArray, List.getElem_cons_succ, List.getElem_cons_zero, List.setIfInBounds_toArray, List.set_cons_zero, List.set_cons_succ]
        refine reg_take (v := .bool true) hR 15 rfl (by kernel_rfl) (by kernel_rfl) (by kernel_rfl) (fun _ _ _ h => h) (by rfl) ?_ ?_
        · intro W hW; go_simp; try with_reducible rfl
        try simp only [Act.put, List.getElem_toArray, List.getElem_cons_succ, List.getElem_cons_zero, List.setIfInBounds_toArray, List.set_cons_zero, List.set_cons_succ]
        refine reg_take (v := .bool true) hR 16 rfl (by kernel_rfl) (by kernel_rfl) (by kernel_rfl) (fun _ _ _ h => h) (by rfl) ?_ ?_
        · intro W hW; go_simp; try with_reducible rfl
        try simp only [Act.put, List.getElem_toArray, List.getElem_cons_succ, List.getElem_cons_zero, List.setIfInBounds_toArray, List.set_cons_zero, List.set_cons_succ]
        refine reg_take (v := .bool true) hR 17 rfl (by kernel_rfl) (by kernel_rfl) (by kernel_rfl) (fun _ _ _ h => h) (by rfl) ?_ ?_
        · intro W hW; go_simp; try with_reducible rfl
        try simp only [Act.put, List.getElem_toArray, List.getElem_cons_succ, List.getElem_cons_zero, List.setIfInBounds_toArray, List.set_cons_zero, List.set_cons_succ]
        refine reg_done (by kernel_rfl) ?_ _
        go_wp2
        go_ret
        exact ⟨rfl, HB21.out.bel⟩
      · have HRT := Lib.hid (fun (W : World) (h : Rd W W.heap.size (some ⟨g, 0, none⟩) b.length cap T) => Read_fail W hC h (by omega) hG)
        have hgz : (readErr C T == 0) = false := by rw [beq_eq_false_iff_ne]; exact hG
        generalize readErr C T = G at HRT hgz
        have hgz2 : (G != 0) = true := by rw [bne, hgz]; rfl
        have hgz3 : ¬ G = 0 := by simpa using hgz
        clear hG
        go_wp2_with (first | (refine wpList_load_at rfl 23 _ rfl ⟨w.heap.size + 1, 0, none⟩ rfl (cs8 C) _ HB15.out.hc.at_ Try.underlying23 rfl (by rw [HC8.out]; exact info36) ?_) | fail)
        generalize w14.setCell _ _ = w15 at HB15 HO15 HS15 ⊢
        refine (HRT.out w15 HS15.out.rd).mono ?_; rintro e w16 ⟨rfl, hb⟩
        have HB16 := Lib.hid (HB15.out.keep hb)
        have hl2 := lay2 w16 [.int .u8 0, .slice none 0 0] z36
        have HB17 := Lib.hid (HB16.out.keep hl2.bel)
        clear hl2 hb HO15 HS15
        go_wp2_with (first | (refine wpList_alloc_z rfl 23 rfl z36 zero36 ?_) | (refine wpList_store_bk rfl 23 _ _ rfl (w16.heap.size + 1) rfl z36 z36 rfl (bk_lay w16 _) (by kernel_rfl) rfl all_z36 ?_))
        go_ret
        exact ⟨rfl, HB17.out.bel⟩

theorem Bound_all (A : Option Addr) (n c : Nat) (l C D : List UInt8) (k by_ : UInt8) (at_ : Int) (w : World) (hr : Rd w w.heap.size A n c l) (hC : C.length = 32) (hD : D.length = 32) :
    Calls Try.prog 5 #[.agg #[.int .u8 (k.toNat : Int), .slice A n c], .agg (cs8 C).toArray, .agg (cs8 D).toArray, .int .i64 at_, .int .u8 (by_.toNat : Int)] w fun e w' => e = .returned (.bool true) ∧ Below w.heap.size w w' := by
  by_cases hv : Vr k l
  · have ho := read_other C D k l hv
    by_cases hq : (nextR C k l).take 8 = (nextR D k l).take 8
    · rw [if_pos hq] at ho
      exact Bound_one A n c l C D k by_ at_ w hC hD hr hv 0 ho.symm (.inl rfl) (by simp [hq])
    · rw [if_neg hq] at ho
      exact Bound_one A n c l C D k by_ at_ w hC hD hr hv 4 ho.symm (.inr rfl) (by
        rw [show ((4 : Int) == 0) = false from rfl, beq_eq_false_iff_ne]
        exact fun e => hq e.symm)
  · exact Bound_off A n c l C D k by_ at_ w hr hv
end Go.Proofs.Ytjaoaikcmbfnmaa
