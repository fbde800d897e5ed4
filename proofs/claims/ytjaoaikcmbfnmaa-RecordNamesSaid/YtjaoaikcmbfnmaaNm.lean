/- RecordNames: the walk. -/
import Derived.Test.YtjaoaikcmbfnmaaNb2
import Derived.Test.YtjaoaikcmbfnmaaNb3
import Derived.Test.YtjaoaikcmbfnmaaNb11
namespace Go.Proofs.Ytjaoaikcmbfnmaa
set_option maxRecDepth 100000
set_option linter.unusedSimpArgs false
set_option linter.unusedVariables false
open Go.RowKit

/-- make([]byte, L, C) behind a guard: of what it holds nothing is said. -/
theorem wpList_makeG {w : World} {ops : Array Oper} {rest : List Oper} {o : Oper} {a : Act} {Q : Exit → Act → World → Prop} (hgd : Region.wanted o (yielded ops a.tmps) = true) (l c : Operand)
    (ho : o.op = Op.makeSlice 26 l c) {kl kc : IntKind} (L C : Nat) (hl : a.eval l = .int kl (L : Int)) (hc : a.eval c = .int kc (C : Int)) (h0 : L ≤ C) (h1 : C ≤ 140737488355328)
    (h : ∀ w', Below w.heap.size w w' → wpList Try.prog ops Q rest (a.put o.dst (.slice (some ⟨w.heap.size, 0, none⟩) L C)) w') : wpList Try.prog ops Q (o :: rest) a w := by
  obtain ⟨i, hi, hz0, hz1, hz2⟩ := info_parts info_u8
  refine wpList_step fun K hK => ?_
  rw [if_pos hgd]
  have hm : (maxLen : Int) = 9223372036854775807 := by simp [maxLen]
  have hr := run_make (P := Try.prog) w 26 5 i (.int .u8 0) Try.underlying26 hi hz0 kl kc L C (by omega) (by omega) (by rw [hz2]; omega) (by omega)
  rw [Int.toNat_natCast, Int.toNat_natCast] at hr
  unfold Oper.wp execOp
  simp only [ho, hl, hc, hr, Sem.run_bind, Result.andThen_ok, Sem.run_pure]
  exact hK _ _ (h _ (bl_alloc (bl0 w) _))

set_option maxHeartbeats 6400000 in
theorem Names_any (w : World) : Calls Try.prog 3 #[] w fun e w' => e = .returned (.bool true) ∧ Below w.heap.size w w' := by
  have hcv := fun W : World => Lib.run_convert_bytes_const W 26 5 #[.int .u8 120, .int .u8 121] 2 2 Try.underlying26 Try.underlying5
  simp only [List.size_toArray, List.length_cons, List.length_nil, Nat.zero_add, Nat.reduceAdd] at hcv
  have HCV := Lib.hid hcv
  clear hcv
  have hd := sums_xy
  obtain ⟨C, hC⟩ : ∃ C, sumS (OwordB 3 8) = C := ⟨_, rfl⟩
  obtain ⟨D, hD⟩ : ∃ D, sumS (OwordB 4 8) = D := ⟨_, rfl⟩
  have h3 := First_any 3 w (by decide) (by decide)
  have h4 := fun W => First_any 4 W (by decide) (by decide)
  rw [show (3 : Int).toNat = 3 from rfl, hC] at h3
  rw [show (4 : Int).toNat = 4 from rfl, hD] at h4
  rw [hC, hD] at hd
  have HC32 := Lib.hid (show C.length = 32 by rw [← hC, sumS_length'])
  have HD32 := Lib.hid (show D.length = 32 by rw [← hD, sumS_length'])
  have HC8 := Lib.hid (show (cs8 C).length = 32 by rw [cs8_length, HC32.out])
  have HBy : Hid (∀ (W : World) (A : Option Addr) (c : Nat), Rd W W.heap.size A 2 c [120, 121] → Calls Try.prog 8 #[.agg (cs8 C).toArray, .agg #[.int .u8 9, .slice A 2 c]] W (IsB W (nextR C 9 [120, 121]) (recB C 9 [120, 121]))) := Lib.hid fun W A c h => Bytes_good (k := 9) W HC32.out h (by decide) (by decide)
  have hlb : (recB C 9 [120, 121]).length = 12 := by rw [recB_length]; decide
  have HRead : Hid (∀ (W : World) (A : Option Addr) (c : Nat), Rd W W.heap.size A 13 c (recB C 9 [120, 121] ++ [7]) → Calls Try.prog 9 #[.agg (cs8 C).toArray, .slice A 13 c] W fun e w' =>
      ∃ A n c, e = .returned (.tuple #[.agg #[.int .u8 9, .slice A n c], .int .i64 12, .agg (cs8 (nextR C 9 [120, 121])).toArray, .int .i64 0]) ∧ Ow w' W.heap.size (.slice A n c) [120, 121] ∧ Below W.heap.size W w') := Lib.hid fun W A c h => by
    have := Read_good W HC32.out h (by decide) 9 [120, 121] [7] ⟨by decide, by decide⟩ rfl
    rw [hlb] at this
    exact this
  have HRead4 : Hid (∀ (W : World) (A : Option Addr) (c : Nat), Rd W W.heap.size A 12 c (recB C 9 [120, 121]) → Calls Try.prog 9 #[.agg (cs8 D).toArray, .slice A 12 c] W (ReadBad W 4)) := Lib.hid fun W A c h => by
    have he : readErr D (recB C 9 [120, 121]) = 4 := by rw [read_other C D 9 [120, 121] ⟨by decide, by decide⟩, if_neg hd]
    have := Read_fail W HD32.out h (by decide) (by rw [he]; decide)
    rwa [he] at this
  have HN32 := Lib.hid (nextR_length C 9 [120, 121])
  have hb0 : (recB C 9 [120, 121])[0]? = some 9 := by simp [recB, recP]
  have hb1 : (recB C 9 [120, 121])[1]? = some 2 := by
    have : numB 2 = [2] := by decide
    simp [recB, recP, this]
  have HLB := Lib.hid hlb
  have Hb0 := Lib.hid hb0
  have Hb1 := Lib.hid hb1
  have H3 := Lib.hid h3
  have H4 := Lib.hid h4
  clear hlb hb0 hb1 h3 h4 hd hC hD
  generalize nextR C 9 [120, 121] = N at HBy HRead HN32
  generalize recB C 9 [120, 121] = b at HBy HRead HRead4 HLB Hb0 Hb1
  have HN8 := Lib.hid (show (cs8 N).length = 32 by rw [cs8_length, HN32.out])
  go_enter Try.func3, Try.ntmps3
  simp only [List.append_eq, List.cons_append, List.nil_append]
  go_wp2_with fail
  refine H3.out.mono ?_; rintro e w1 ⟨rfl, hb⟩
  have HB1 := Lib.hid hb
  clear hb H3
  have hk2 := Lib.hid ((Bk.new w1 z36 23).setRow (cs8 C))
  have hb2 := Lib.hid (bl_call HB1.out (bl_setRow (bl_alloc (bl0 w1) (.cells z36.toArray 23)) (Nat.le_refl _) (cs8 C).toArray))
  have hs2 : ((w1.alloc (.cells z36.toArray 23)).setRow w1.heap.size (cs8 C).toArray).heap.size = w1.heap.size + 1 := by simp [World.setRow]
  have hcv := HCV.out ((w1.alloc (.cells z36.toArray 23)).setRow w1.heap.size (cs8 C).toArray)
  rw [hs2] at hcv
  go_wp2_with (first | (refine wpList_alloc_z rfl 23 rfl z36 zero36 ?_) | (refine wpList_store_bk rfl 23 _ _ rfl w1.heap.size rfl (cs8 C) z36 rfl (Bk.new w1 z36 23) (by rw [HC8.out]; exact info36) (by rw [HC8.out]; exact len_z36) (cs8_all _) ?_) | (refine wpList_load_at rfl 23 _ rfl ⟨w1.heap.size, 0, none⟩ rfl (cs8 C) _ hk2.out.at_ Try.underlying23 rfl (by rw [HC8.out]; exact info36) ?_))
  have hrl := (rd_lit ((w1.alloc (.cells z36.toArray 23)).setRow w1.heap.size (cs8 C).toArray) [120, 121] (2, 3)).more (show _ ≤ (((w1.alloc (.cells z36.toArray 23)).setRow w1.heap.size (cs8 C).toArray).alloc (.cells (cs8 [120, 121]).toArray 5 (2, 3))).heap.size by simp)
  rw [hs2] at hrl
  have hc2 := hk2.out.old (.cells (cs8 [120, 121]).toArray 5 (2, 3))
  have hb3 := bl_alloc hb2.out (.cells (cs8 [120, 121]).toArray 5 (2, 3))
  refine (HBy.out _ _ _ hrl).mono ?_; rintro e w3 ⟨v3, rfl, ho3, hb⟩
  obtain ⟨A3, k3, ev, hr3⟩ := ho3.rdN HLB.out
  subst ev
  have HC3 := Lib.hid (hc2.keep hb)
  have HB3 := Lib.hid (bl_call hb3 hb)
  have HR3 := Lib.hid hr3
  clear hrl hc2 hb3 ho3 hb hr3 hk2 hb2 hs2 hcv HB1
  generalize w1.heap.size = c1 at HC3 ⊢
  have hbb : Below w3.heap.size w3 ((w3.alloc (.cells z36.toArray 23)).setRow w3.heap.size (cs8 N).toArray) := bl_setRow (bl_alloc (bl0 w3) _) (Nat.le_refl _) _
  have HC5 := Lib.hid (HC3.out.keep hbb)
  have HN5 := Lib.hid ((Bk.new w3 z36 23).setRow (cs8 N))
  have HB5 := Lib.hid (bl_call HB3.out hbb)
  have HR5 := Lib.hid (HR3.out.top hbb)
  clear hbb
  go_wp2_with (first | (refine wpList_alloc_z rfl 23 rfl z36 zero36 ?_) | (refine wpList_store_bk rfl 23 _ _ rfl w3.heap.size rfl (cs8 N) z36 rfl (Bk.new w3 z36 23) (by rw [HN8.out]; exact info36) (by rw [HN8.out]; exact len_z36) (cs8_all _) ?_))
  clear HC3 HB3 HR3
  generalize (w3.alloc (.cells z36.toArray 23)).setRow w3.heap.size (cs8 N).toArray = w5 at HC5 HN5 HB5 HR5 ⊢
  generalize w3.heap.size = c3 at HN5 ⊢
  refine region_meetQ (fun a0 a' w' => End3 w5 C N A3 k3 c1 c3 a0 a' w') ?_ ?_
  · have hR := Sb.stays w5.heap.size
    refine reg_start (Sb w5.heap.size) follows_mixed ?_
    have HC0 := Lib.hid HC5.out.drew
    have HltC := Lib.hid HC5.out.lt
    have HRB := Lib.hid (show Rd w5 w5.heap.size A3 12 k3 b from HR5.out)
    have HB := Lib.hid (Below.refl w5.heap.size w5).drew
    generalize w5.drew = u0 at HC0 HB ⊢
    refine reg_take (v := .agg (cs8 C).toArray) hR 0 rfl (by kernel_rfl) (by kernel_rfl) (by kernel_rfl) (fun _ _ _ h => by cases h.1) (by rfl) ?_ ?_
    · intro W hW; exact exec_load_at 23 _ rfl ⟨c1, 0, none⟩ rfl (cs8 C) _ (HC0.out.below hW HltC.out).at_ Try.underlying23 rfl (by rw [HC8.out]; exact info36)
    try simp only [Act.put, List.getElem_toArray, List.getElem_cons_succ, List.getElem_cons_zero, List.setIfInBounds_toArray, List.set_cons_zero, List.set_cons_succ]
    refine reg_take (v := .slice A3 12 k3) hR 1 rfl (by kernel_rfl) (by kernel_rfl) (by kernel_rfl) (fun _ _ _ h => by cases h.1) (by rfl) ?_ ?_
    · intro W hW; go_simp; try with_reducible rfl
    try simp only [Act.put, List.getElem_toArray, List.getElem_cons_succ, List.getElem_cons_zero, List.setIfInBounds_toArray, List.set_cons_zero, List.set_cons_succ]
    refine reg_fork (rs := [2, 3, 11, 12]) hR (by kernel_rfl) (by simp) ?_
    intro i hi; simp only [List.mem_cons, List.not_mem_nil, or_false] at hi
    rcases hi with rfl | rfl | rfl | rfl
    · exact br2 w5 u0 C N b A3 k3 c1 c3 HLB HN8 HRB HB HRead
    · exact br3 w5 u0 C N b A3 k3 c1 c3 HLB HN8 HRB HB HRead
    · exact br11 w5 u0 C N b A3 k3 c1 c3 HLB HN8 HRB HB HRead
    · exact br12 w5 u0 C N b A3 k3 c1 c3 HLB HN8 HRB HB HRead
  · rintro a' w6 ⟨p, q, s, v29, A31, c31, A22, n22, c22, rfl, HTp, HTq, HPQ, HP6, HQ6, HO6, hb6⟩
    simp only [puts, List.foldl_cons, List.foldl_nil, Act.put, List.getElem_toArray, List.getElem_cons_succ, List.getElem_cons_zero, List.setIfInBounds_toArray, List.set_cons_zero, List.set_cons_succ]
    have HC6 := Lib.hid (HC5.out.keep hb6.out)
    have HN6 := Lib.hid (HN5.out.keep hb6.out)
    have HB6 := Lib.hid (bl_call HB5.out hb6.out)
    have HR6 := Lib.hid (HR5.out.top hb6.out)
    obtain ⟨A23, c23, e23, hrd⟩ := HO6.out.rd
    injection e23 with e1 e2 e3
    subst e1; subst e2; subst e3
    have HX6 := Lib.hid hrd
    clear hrd HO6 HTp HTq HPQ hb6 HC5 HN5 HB5 HR5
    go_wp2_with fail
    refine (H4.out w6).mono ?_; rintro e w7 ⟨rfl, hb⟩
    have HC7 := Lib.hid (HC6.out.keep hb)
    have HN7 := Lib.hid (HN6.out.keep hb)
    have HP7 := Lib.hid (HP6.out.keep hb)
    have HQ7 := Lib.hid (HQ6.out.keep hb)
    have HB7 := Lib.hid (bl_call HB6.out hb)
    have HR7 := Lib.hid (HR6.out.top hb)
    have HX7 := Lib.hid (HX6.out.top hb)
    clear hb HC6 HN6 HP6 HQ6 HB6 HR6 HX6
    go_wp2_with fail
    refine (HRead4.out _ _ _ HR7.out).mono ?_; rintro e w8 ⟨rfl, hb⟩
    have HZ8 : Hid (Bk ((w8.alloc (.cells #[.int .u8 0, .slice none 0 0] 31)).alloc (.cells z36.toArray 23)) (w8.heap.size + 1) z36) := Lib.hid (by
      have := Bk.new (w8.alloc (.cells #[.int .u8 0, .slice none 0 0] 31)) z36 23
      simpa using this)
    have hbb := bl_call hb (bl_setRow (bl_alloc (bl_alloc (bl0 w8) (.cells #[.int .u8 0, .slice none 0 0] 31)) (.cells z36.toArray 23)) (show w8.heap.size ≤ w8.heap.size + 1 by omega) z36.toArray)
    have HC9 := Lib.hid (HC7.out.keep hbb)
    have HN9 := Lib.hid (HN7.out.keep hbb)
    have HP9 := Lib.hid (HP7.out.keep hbb)
    have HQ9 := Lib.hid (HQ7.out.keep hbb)
    have HB9 := Lib.hid (bl_call HB7.out hbb)
    have HR9 := Lib.hid (HR7.out.top hbb)
    have HX9 := Lib.hid (HX7.out.top hbb)
    clear hb hbb HC7 HN7 HP7 HQ7 HB7 HR7 HX7
    go_wp2_with (first | (refine wpList_alloc_z rfl 23 rfl z36 zero36 ?_) | (refine wpList_store_bk rfl 23 _ _ rfl (w8.heap.size + 1) rfl z36 z36 rfl HZ8.out (by kernel_rfl) rfl all_z36 ?_) | (refine wpList_load_at rfl 23 _ rfl ⟨c1, 0, none⟩ rfl (cs8 C) _ HC9.out.at_ Try.underlying23 rfl (by rw [HC8.out]; exact info36) ?_))
    clear HZ8
    generalize ((w8.alloc (.cells #[.int .u8 0, .slice none 0 0] 31)).alloc (.cells z36.toArray 23)).setRow (w8.heap.size + 1) z36.toArray = w9 at HC9 HN9 HP9 HQ9 HB9 HR9 HX9 ⊢
    generalize w8.heap.size = z8
    refine (Bytes_bad (k := 0) w9 (fun h => h.1 rfl)).mono ?_; rintro e w10 ⟨rfl, hb⟩
    have hbb := bl_call hb (bl_setRow (bl_alloc (bl0 w10) (.cells z36.toArray 23)) (Nat.le_refl _) z36.toArray)
    have HN11 := Lib.hid (HN9.out.keep hbb)
    have HP11 := Lib.hid (HP9.out.keep hbb)
    have HQ11 := Lib.hid (HQ9.out.keep hbb)
    have HB11 := Lib.hid (bl_call HB9.out hbb)
    have HR11 := Lib.hid (HR9.out.top hbb)
    have HX11 := Lib.hid (HX9.out.top hbb)
    clear hb hbb HC9 HN9 HP9 HQ9 HB9 HR9 HX9
    go_wp2_with (first | (refine wpList_alloc_z rfl 23 rfl z36 zero36 ?_) | (refine wpList_store_bk rfl 23 _ _ rfl w10.heap.size rfl z36 z36 rfl (Bk.new w10 z36 23) (by kernel_rfl) rfl all_z36 ?_))
    generalize (w10.alloc (.cells z36.toArray 23)).setRow w10.heap.size z36.toArray = w11 at HN11 HP11 HQ11 HB11 HR11 HX11 ⊢
    generalize w10.heap.size = z10
    refine (lives_any w11).mono ?_; rintro e w12 ⟨rfl, hb⟩
    have HN12 := Lib.hid (HN11.out.keep hb)
    have HP12 := Lib.hid (HP11.out.keep hb)
    have HQ12 := Lib.hid (HQ11.out.keep hb)
    have HB12 := Lib.hid (bl_call HB11.out hb)
    have HR12 := Lib.hid (HR11.out.top hb)
    have HX12 := Lib.hid (HX11.out.top hb)
    clear hb HN11 HP11 HQ11 HB11 HR11 HX11
    have harr := arr_same HN32.out
    have hcv := HCV.out w12
    obtain ⟨ad, ead, -, hcell⟩ := HR12.out.2.2 (by omega)
    subst ead
    have hc0 : w12.cell? ad = some (.int .u8 9) := by have := hcell 0 9 Hb0.out; rwa [show ad.add 0 = ad from rfl] at this
    have hc1 : w12.cell? ⟨ad.block, ad.off + 1, none⟩ = some (.int .u8 2) := by have := hcell 1 2 Hb1.out; rwa [show ad.add 1 = ⟨ad.block, ad.off + 1, none⟩ from by unfold Addr.add; simp] at this
    clear hcell
    go_wp2_with (first | (refine wpList_load_atG (by first | rfl | kernel_rfl) 23 _ rfl ⟨q, 0, none⟩ rfl (cs8 N) _ HQ12.out.at_ Try.underlying23 rfl (by rw [HN8.out]; exact info36) ?_) | (refine wpList_load_atG (by first | rfl | kernel_rfl) 23 _ rfl ⟨c3, 0, none⟩ rfl (cs8 N) _ HN12.out.at_ Try.underlying23 rfl (by rw [HN8.out]; exact info36) ?_) | (refine wpList_load_atG (by first | rfl | kernel_rfl) 31 _ rfl ⟨p, 0, none⟩ rfl [.int .u8 9, .slice A22 ([120, 121] : List UInt8).length c22] _ HP12.out.at_ Try.underlying31 rfl info31 ?_) | fail)
    have hrl := (rd_lit w12 [120, 121] (2, 3)).more (show _ ≤ (w12.alloc (.cells (cs8 [120, 121]).toArray 5 (2, 3))).heap.size by simp)
    have hb13 := bl_alloc (bl0 w12) (.cells (cs8 [120, 121]).toArray 5 (2, 3))
    refine (Rec_yes (k := 9) (k2 := 9) _ (HX12.out.top hb13) hrl ⟨rfl, rfl⟩).mono ?_; rintro e w14 ⟨rfl, hb⟩
    have hbb := bl_call hb13 hb
    have HP14 := Lib.hid (HP12.out.keep hbb)
    have HB14 := Lib.hid (bl_call HB12.out hbb)
    have HX14 := Lib.hid (HX12.out.top hbb)
    clear hrl hb13 hb hbb HN12 HP12 HQ12 HB12 HR12 HX12 hc0 hc1 harr hcv
    go_wp2_with (first | (refine wpList_makeG (by first | rfl | kernel_rfl) _ _ rfl 8193 8193 rfl rfl (by omega) (by omega) ?_; intro w15 hb15) | fail)
    refine (Check_bad (k := 1) (n := 8193) _ (fun h => by have := h.2; omega)).mono ?_; rintro e w16 ⟨rfl, hb⟩
    have hbb := bl_call hb15 hb
    have HP16 := Lib.hid (HP14.out.keep hbb)
    have HB16 := Lib.hid (bl_call HB14.out hbb)
    have HX16 := Lib.hid (HX14.out.top hbb)
    clear hb15 hb hbb HP14 HB14 HX14
    go_wp2_with fail
    refine (Size_bad (k := 0) _ (fun h => h.1 rfl)).mono ?_; rintro e w17 ⟨rfl, hb⟩
    have HP17 := Lib.hid (HP16.out.keep hb)
    have HB17 := Lib.hid (bl_call HB16.out hb)
    have HX17 := Lib.hid (HX16.out.top hb)
    clear hb HP16 HB16 HX16
    go_wp2_with (first | (refine wpList_load_atG (by first | rfl | kernel_rfl) 31 _ rfl ⟨p, 0, none⟩ rfl [.int .u8 9, .slice A22 ([120, 121] : List UInt8).length c22] _ HP17.out.at_ Try.underlying31 rfl info31 ?_) | fail)
    refine (Same_self (k := 9) w17 HX17.out).mono ?_; rintro e w18 ⟨rfl, hb⟩
    have HB18 := Lib.hid (bl_call HB17.out hb)
    clear hb HP17 HB17 HX17
    go_wp2_with fail
    go_ret
    exact ⟨rfl, HB18.out⟩
end Go.Proofs.Ytjaoaikcmbfnmaa
