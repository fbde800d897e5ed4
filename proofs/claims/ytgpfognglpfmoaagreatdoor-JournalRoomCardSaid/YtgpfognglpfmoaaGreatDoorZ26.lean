/- Texts of this claim, one behind the other: JBg, JHp, JFo, JNi, JSw. -/
import Derived.Test.YtgpfognglpfmoaaGreatDoorZ25
import Derived.Test.YtgpfognglpfmoaaGreatDoorZ22
import Derived.Test.YtgpfognglpfmoaaGreatDoorZ23
import Derived.Test.YtgpfognglpfmoaaGreatDoorZ14
set_option linter.unusedSimpArgs false
set_option linter.unusedVariables false
section
/- A journal: begin. -/
namespace Go.Proofs.YtgpfognglpfmoaaGreatDoor
set_option maxRecDepth 8192
set_option linter.unusedSimpArgs false
set_option linter.unusedVariables false
open Go.RowKit Go.Shelf

attribute [local go_sem] Oper.semAt_some

theorem enters110 : ∀ args w, (callFunc 110 args).run Tryz.prog w = .ok (.enter 110 args) w := enters_of Tryz.func110 (by kernel_rfl) rfl
theorem steps_call (J L : Nat) (w : World) : Calls Tryz.prog 81 #[pt0 J, pt0 L] w fun e w' =>
    e = .returned (.func (.func 110) #[] #[.pointer (some ⟨w.heap.size + 1, 0, none⟩), .pointer (some ⟨w.heap.size, 0, none⟩)]) ∧ w' = (w.alloc (.cells #[pt0 J] 26)).alloc (.cells #[pt0 L] 81) := by
  go_enter Tryz.func81, Tryz.ntmps81
  go_wp2
  go_ret
  exact ⟨rfl, rfl⟩
/-- What is put back is as it was. -/
theorem putObj_back {W : World} {l : Nat} {o o' : Obj} (h : W.heap[l]? = some o) : (W.putObj l o').putObj l o = W := by
  have hlt := (Array.getElem?_eq_some_iff.1 h).1
  have he := (Array.getElem?_eq_some_iff.1 h).2
  have : ((W.putObj l o').putObj l o).heap = W.heap := by
    apply Array.ext_getElem?
    intro i
    by_cases hi : i = l
    · subst hi
      rw [World.putObj_heap_same (by rw [show (W.putObj i o').heap.size = W.heap.size from by simp [World.putObj]]; exact hlt), h]
    · rw [World.putObj_heap_other hi, World.putObj_heap_other hi]
  have h2 : (W.putObj l o').putObj l o = { W with heap := ((W.putObj l o').putObj l o).heap } := rfl
  rw [h2, this]

set_option maxHeartbeats 1600000 in
/-- A range over the steps of a beginning. -/
theorem range_steps {n : Nat} {g : Operand} {pt : Tmp} (slot : Nat) {assign body : Code} {Q : Exit → Act → World → Prop} {a : Act} {w : World} (h1 : 8 ≤ n) {x1 x2 J L s m p area : Nat} {L0 : Value} {syn E : Nat} {rs : List (UInt8 × List UInt8)} {v : Value} {B : List UInt8} {C : Ca}
    (hg : a.eval g = .func (.func 110) #[] #[.pointer (some ⟨x1, 0, none⟩), .pointer (some ⟨x2, 0, none⟩)]) (hb1 : Bk w x1 [pt0 L]) (hb2 : Bk w x2 [pt0 J]) (hj : Bk w J (jv p area L0 syn)) (hl : Lg w 0 L E rs v) (hd : Dk w p s m B C)
    (hap : ∀ k, k = s ∨ k = m → x1 ≠ k ∧ x2 ≠ k ∧ J ≠ k ∧ L ≠ k ∧ v.ownBlock ≠ some k) (hE : E ≤ 4294967296) (ha1 : 1 ≤ area) (ha : area ≤ 256) (hs : 2 + 2 * area ≤ C.length) (hf : (recsB (fstC E) rs).length ≤ area * 256)
    (hassign : ∀ (l : Nat) (W : World) (K : Act → World → Prop), K { tmps := (a.tmps.setIfInBounds pt (.int .i64 0)).setIfInBounds slot (.int .i64 0), defers := [] } W →
      assign.wpIn (Fence.wide.inRound l) (n - 1 - 1) Tryz.prog (Exit.then K (fun _ _ _ => False)) { tmps := a.tmps.setIfInBounds pt (.int .i64 0), defers := [] } W)
    (hbody : ∀ (l : Nat) (W : World), body.wpIn (Fence.wide.inRound l) (n - 1 - 1) Tryz.prog (fun e _ W' => e = .normal ∧ W' = W) { tmps := (a.tmps.setIfInBounds pt (.int .i64 0)).setIfInBounds slot (.int .i64 0), defers := [] } W)
    (hdone : ∀ (D : Nat) (W : World), w.heap.size ≤ D → Dk W p s m (begB B C E area rs) (noC C.length) → Kp (fun k => k = s ∨ k = m) w W → W.heap[D]? = some (.deferred (some [])) → Q .normal { a with defers := { target := .collected D, args := #[] } :: a.defers } W) :
    (Code.rangeFunc g #[pt] assign body).wpIn Fence.wide n Tryz.prog Q a w := by
  refine range_of (by omega) hg enters110 ?_
  intro fn
  generalize hrec : ({ state := LoopState.ready, pending := none, fn := fn, tmps := a.tmps, params := #[pt], assign := assign, body := body, defers := w.heap.size } : Loop) = rec
  have hrs : rec.state = .ready := by rw [← hrec]
  have hrq : rec.pending = none := by rw [← hrec]
  have hrp : rec.params = #[pt] := by rw [← hrec]
  have hra : rec.assign = assign := by rw [← hrec]
  have hrb : rec.body = body := by rw [← hrec]
  have hrt : rec.tmps = a.tmps := by rw [← hrec]
  have hbl : Below w.heap.size w ((w.alloc (.deferred (some []))).alloc (.loop rec)) := bl_alloc (bl_alloc (bl0 w) _) _
  have hD : ((w.alloc (.deferred (some []))).alloc (.loop rec)).heap[w.heap.size]? = some (.deferred (some [])) := (Below.heap_alloc _ _ _ (by simp)).trans (World.alloc_heap_new w _)
  have hL : ((w.alloc (.deferred (some []))).alloc (.loop rec)).heap[w.heap.size + 1]? = some (.loop rec) := by
    have := World.alloc_heap_new (w.alloc (.deferred (some []))) (.loop rec)
    rwa [World.size_alloc] at this
  have hps := hd.slt
  have hpm := hd.mlt
  have hsw : Sw ((w.alloc (.deferred (some []))).alloc (.loop rec)) (w.heap.size + 1) rec x1 x2 J L s m p area L0 syn E rs v :=
    ⟨hL, hb1.keep hbl, hb2.keep hbl, hj.keep hbl, hl.old hbl, fun k hk => ⟨by rcases hk with rfl | rfl <;> omega, hap k hk⟩⟩
  have hsz : ((w.alloc (.deferred (some []))).alloc (.loop rec)).heap.size = w.heap.size + 1 + 1 := by simp
  refine (steps1_in (n - 1) (by omega) hsw (hd.old hbl) hE ha1 ha hs hf ?_).mono ?_
  · intro X hX
    have hlt := (Array.getElem?_eq_some_iff.1 hX).1
    refine ⟨rec.fn, _, rec.assign, rec.body, run_yield hX (by rw [hrp]; rfl), roundIn_of_wpIn trivial ?_⟩
    rw [hra, hrb, hrp, hrt]
    rw [show Array.foldl (fun (t : Array Value) (x : Tmp × Value) => match x with | (p, v) => t.setIfInBounds p v) a.tmps (#[pt].zip #[.int .i64 0]) = a.tmps.setIfInBounds pt (.int .i64 0) from by simp]
    refine hassign (w.heap.size + 1) X _ ?_
    have hl2 : (X.putObj (w.heap.size + 1) (.loop { rec with state := .busy })).heap[w.heap.size + 1]? = some (.loop { rec with state := .busy }) := World.putObj_heap_same hlt
    refine ⟨_, run_beginRound hX hrs, ?_⟩
    refine wpIn_mono (hbody (w.heap.size + 1) _) ?_
    rintro e a3 W3 ⟨rfl, rfl⟩
    have hrun := run_endRound (P := Tryz.prog) none hl2
    have hrr : ({ { rec with state := .busy } with state := (if (none : Option Code).isNone then LoopState.ready else .done), pending := none } : Loop) = rec := by rw [← hrec]; rfl
    rw [hrr, putObj_back hX] at hrun
    exact ⟨_, _, hrun, rfl, rfl⟩
  · rintro e W2 ⟨⟨u, rfl⟩, hd2, hk2⟩
    have hl2 : W2.heap[w.heap.size + 1]? = some (.loop rec) := (hk2.block _ (by omega) (by omega)).trans hL
    have hD2 : W2.heap[w.heap.size]? = some (.deferred (some [])) := (hk2.block _ (by omega) (by omega)).trans hD
    have hrun := run_endLoop (P := Tryz.prog) hl2 (by rw [hrs]; simp)
    rw [hrq] at hrun
    have hg7 := grownBy_putObj' W2 (w.heap.size + 1) (.loop { rec with state := .exhausted, pending := none })
    have hk9 : Kp (fun k => k = s ∨ k = m) w (W2.putObj (w.heap.size + 1) (.loop { rec with state := .exhausted, pending := none })) :=
      ⟨hg7.os.trans (hk2.os.trans hbl.os), hg7.tape.trans (hk2.tape.trans hbl.tape), hg7.output.trans (hk2.output.trans hbl.output), by have := hg7.size; have := hk2.size; omega, fun x hx hm =>
        (hg7.block x (by have := hk2.size; omega) (fun e => by injection e with e; omega)).trans ((hk2.block x (by omega) hm).trans (hbl.block x hx))⟩
    exact ⟨none, _, hrun, hdone _ _ (Nat.le_refl _) (hd2.grow hg7 (fun r e => by have := hd.plt; injection e with e; omega)) hk9 ((World.putObj_heap_other (by omega)).trans hD2)⟩

set_option maxHeartbeats 3200000 in
theorem begin_v {w : World} {J L s m p area : Nat} {L0 : Value} {syn E : Nat} {rs : List (UInt8 × List UInt8)} {v : Value} {B : List UInt8} {C : Ca} (hj : Bk w J (jv p area L0 syn)) (hl : Lg w 0 L E rs v) (hd : Dk w p s m B C)
    (hap : ∀ k, k = s ∨ k = m → J ≠ k ∧ L ≠ k ∧ v.ownBlock ≠ some k) (hPJ : J ≠ p) (hJL : J ≠ L) (hJv : v.ownBlock ≠ some J) (hE : E ≤ 4294967296) (ha1 : 1 ≤ area) (ha : area ≤ 256) (hs : 2 + 2 * area ≤ C.length) (hf : (recsB (fstC E) rs).length ≤ area * 256) :
    Calls Tryz.prog 42 #[pt0 J, pt0 L] w fun e w' => e = .returned (.int .i64 0) ∧ Bk w' J (jc p area L rs.length) ∧ Lg w' 0 L E rs v ∧ Dk w' p s m (begB B C E area rs) (noC C.length) ∧ Kp (fun k => k = J ∨ k = s ∨ k = m) w w' := by
  have hb1 := bl_alloc (bl0 w) (.cells #[.int .i64 0] 23)
  have HZ1 := Lib.hid (Bk.new w [.int .i64 0] 23)
  have HJ1 := Lib.hid (hj.keep hb1)
  have HL1 := Lib.hid (hl.old hb1)
  have HD1 := Lib.hid (hd.old hb1)
  have HB1 := Lib.hid hb1
  have HLT := Lib.hid (show p < w.heap.size ∧ s < w.heap.size ∧ m < w.heap.size ∧ J < w.heap.size from ⟨hd.plt, hd.slt, hd.mlt, hj.lt⟩)
  have HAP := Lib.hid hap
  have HLL := Lib.hid hl.lt
  have HLV := Lib.hid hl.vlt
  have HPJ := Lib.hid hPJ
  clear hPJ hj hl hd hb1 hap
  refine (callsIn_wide (n := 12)).1 ?_
  refine callsIn_of_wp_marks Tryz.func42 rfl trivial ?_ rfl
  simp only [Tryz.ntmps42, List.size_toArray, List.length_cons, List.length_nil, Nat.reduceAdd, Nat.reduceSub, Array.replicate_succ, Array.replicate_zero, List.push_toArray, List.append_toArray, List.nil_append, List.cons_append]
  refine wpIn_wide.2 ?_
  go_wp2_with fail
  refine (steps_call J L _).mono ?_
  rintro e w2 ⟨rfl, hw2⟩
  obtain ⟨w1, hw1⟩ : ∃ w1, w1 = w.alloc (.cells #[.int .i64 0] 23) := ⟨_, rfl⟩
  rw [← hw1] at hw2 HZ1 HJ1 HL1 HD1 HB1
  rw [← hw1]
  have hb2 : Below w1.heap.size w1 w2 := by rw [hw2]; exact bl_alloc (bl_alloc (bl0 w1) _) _
  have HX1 : Hid (Bk w2 (w1.heap.size + 1) [pt0 L]) := Lib.hid (by rw [hw2]; have := Bk.new (w1.alloc (.cells #[pt0 J] 26)) [pt0 L] 81; simpa using this)
  have HX2 : Hid (Bk w2 w1.heap.size [pt0 J]) := Lib.hid (by rw [hw2]; exact (Bk.new w1 [pt0 J] 26).old (.cells #[pt0 L] 81))
  have HZ2 := Lib.hid (HZ1.out.keep hb2)
  have HJ2 := Lib.hid (HJ1.out.keep hb2)
  have HL2 := Lib.hid (HL1.out.old hb2)
  have HD2 := Lib.hid (HD1.out.old hb2)
  have HB2 := Lib.hid (HB1.out.trans (hb2.mono HB1.out.size))
  have HS1 := Lib.hid HB1.out.size
  have HZL := Lib.hid HZ1.out.lt
  clear hw1 hw2 hb2 HZ1 HJ1 HL1 HD1 HB1
  go_wp2_with fail
  refine (wpIn_wide (n := 12)).1 ?_
  refine range_steps 5 (by omega) (x1 := w1.heap.size + 1) (x2 := w1.heap.size) rfl HX1.out HX2.out HJ2.out HL2.out HD2.out (fun k hk => ⟨?_, ?_, HAP.out k hk⟩) hE ha1 ha hs hf ?assign ?body ?done
  · have := HLT.out; have := HS1.out; omega
  · have := HLT.out; have := HS1.out; omega
  case assign =>
    intro l W K hK
    gi_wp2
    exact hK
  case body =>
    intro l W
    gi_wp2
  case done =>
    intro D W hD hd hk hDD
    have hlt := HLT.out
    have hzl := HZL.out
    have hs1 := HS1.out
    have hz2 := HZ2.out.lt
    have hmJ : ¬ (J = s ∨ J = m) := fun e => (HAP.out J e).1 rfl
    have hJW := HJ2.out.kp hk hmJ
    have hLW : Lg W 0 L E rs v := HL2.out.kp hk (fun e => (HAP.out L e).2.1 rfl) (fun k hv e => (HAP.out k e).2.2 hv)
    have hZW := HZ2.out.kp hk (show ¬ (w.heap.size = s ∨ w.heap.size = m) by omega)
    obtain ⟨lr, hbk⟩ := hLW.bk
    have cL : W.cell? ⟨L, 4, none⟩ = some (.int .i64 (rs.length : Int)) := hbk.cell rfl
    have cJ2 : W.cell? ⟨J, 2, none⟩ = some L0 := hJW.cell rfl
    have fJ2 : W.frozen? ⟨J, 2, none⟩ = false := hJW.frozen 2
    have cJ3 : W.cell? ⟨J, 3, none⟩ = some (.int .i64 (syn : Int)) := hJW.cell rfl
    have fJ3 : W.frozen? ⟨J, 3, none⟩ = false := hJW.frozen 3
    have cz : W.cell? ⟨w.heap.size, 0, none⟩ = some (.int .i64 0) := hZW.cell rfl
    have fz : W.frozen? ⟨w.heap.size, 0, none⟩ = false := hZW.frozen 0
    have HJW := Lib.hid hJW
    have HLW := Lib.hid hLW
    have HZW := Lib.hid hZW
    have HDW := Lib.hid hd
    have HKW := Lib.hid hk
    have HDD := Lib.hid hDD
    have nJZ : J ≠ w.heap.size := by omega
    have nZJ : w.heap.size ≠ J := by omega
    clear hJW hLW hZW hd hk hDD hbk
    go_wp2
    have hJ3 := ((HJW.out.setCell 2 (pt0 L)).setCell 3 (.int .i64 (rs.length : Int))).setCell_ne nJZ 0 (.int .i64 0)
    have hz3 := ((HZW.out.setCell_ne nZJ 2 (pt0 L)).setCell_ne nZJ 3 (.int .i64 (rs.length : Int))).setCell 0 (.int .i64 0)
    have hk3 : Kp (fun x => x = J ∨ x = w.heap.size) W (((W.setCell ⟨J, 2, none⟩ (pt0 L)).setCell ⟨J, 3, none⟩ (.int .i64 (rs.length : Int))).setCell ⟨w.heap.size, 0, none⟩ (.int .i64 0)) :=
      (Kp.stays _).trans ((Kp.of_only (Only.set (g := J) W 2 (pt0 L))).mono (fun x e => .inl e)) ((Kp.stays _).trans ((Kp.of_only (Only.set (g := J) _ 3 (.int .i64 (rs.length : Int)))).mono (fun x e => .inl e)) ((Kp.of_only (Only.set (g := w.heap.size) _ 0 (.int .i64 0))).mono (fun x e => .inr e)))
    have hlD : D < W.heap.size := (Array.getElem?_eq_some_iff.1 HDD.out).1
    have hDD3 := (hk3.block D hlD (by omega)).trans HDD.out
    have hL3 := HLW.out.kp hk3 (by rintro (e | e); exact hJL e.symm; have := HL2.out.lt; (have := HLT.out; have h1 := HLL.out; omega)) (fun k hv e => by rcases e with e | e; exact hJv (e ▸ hv); (have h1 := HLV.out k hv; omega))
    have hD3 := HDW.out.kp hk3 (by rintro (e | e); exact HPJ.out e.symm; omega) (fun e => by rcases e with e | e; exact (hmJ (.inl e.symm)); omega) (fun e => by rcases e with e | e; exact (hmJ (.inr e.symm)); omega)
    refine ⟨by simp, .inl ⟨_, _, rfl, run_takeDeferred hDD3, ?_⟩⟩
    have hg7 := grownBy_putObj' (((W.setCell ⟨J, 2, none⟩ (pt0 L)).setCell ⟨J, 3, none⟩ (.int .i64 (rs.length : Int))).setCell ⟨w.heap.size, 0, none⟩ (.int .i64 0)) D (.deferred none)
    have hk7 := hk3
    generalize ((W.setCell ⟨J, 2, none⟩ (pt0 L)).setCell ⟨J, 3, none⟩ (.int .i64 (rs.length : Int))).setCell ⟨w.heap.size, 0, none⟩ (.int .i64 0) = W3 at *
    have hB := HB2.out
    have hKW := HKW.out
    refine ⟨_, results_c1 rfl rfl Tryz.isAgg23 ((hz3.grow hg7 (fun e => by injection e with e; omega)).cell rfl), rfl, hJ3.grow hg7 (fun e => by injection e with e; omega), ?_, hD3.grow hg7 (fun r e => by injection e with e; omega), ?_⟩
    · exact hL3.kp (may := fun x => x = D) ⟨hg7.os, hg7.tape, hg7.output, hg7.size, fun k hk hm => hg7.block k hk (fun e => by injection e with e; exact hm (by first | exact e | exact e.symm))⟩ (by have := HLL.out; omega) (fun k hv e => by have := HLV.out k hv; omega)
    · refine ⟨hg7.os.trans (hk7.os.trans (hKW.os.trans hB.os)), hg7.tape.trans (hk7.tape.trans (hKW.tape.trans hB.tape)), hg7.output.trans (hk7.output.trans (hKW.output.trans hB.output)), ?_, fun x hx hm => ?_⟩
      · have := hg7.size; have := hk7.size; have := hKW.size; omega
      · have h2 := hk7.size; have h3 := hKW.size
        refine (hg7.block x (by omega) (fun e => by injection e with e; omega)).trans ((hk7.block x (by omega) (fun e => ?_)).trans ((hKW.block x (by omega) (fun e => hm (.inr e))).trans (hB.block x hx)))
        rcases e with e | e
        · exact hm (.inl e)
        · omega
end Go.Proofs.YtgpfognglpfmoaaGreatDoor
end
section
/- Heads in plain words: what a head is read as; what is read behind a beginning. -/
namespace Go.Proofs.YtgpfognglpfmoaaGreatDoor
set_option maxRecDepth 8192
set_option linter.unusedSimpArgs false
set_option linter.unusedVariables false
open Go.RowKit

theorem OwordB_length (n k : Nat) : (OwordB n k).length = k := by simp [OwordB]
theorem headB_split (E a : Nat) : ∃ t, headB E a = OwordB E 8 ++ (OwordB a 4 ++ t) := ⟨_, by rw [headB, pad, headP, List.append_assoc, List.append_assoc, List.append_assoc]⟩
theorem rdE_headB {E a : Nat} (hE : E ≤ 18446744073709551615) : rdE (headB E a) = E := by
  obtain ⟨t, ht⟩ := headB_split E a
  rw [rdE, ht, List.take_left' (OwordB_length E 8), leNat_wordB, Nat.mod_eq_of_lt]
  have : (2 : Nat) ^ (8 * 8) = 18446744073709551616 := by decide
  omega
theorem rdA_headB {E a : Nat} (ha : a ≤ 256) : rdA (headB E a) = a := by
  obtain ⟨t, ht⟩ := headB_split E a
  rw [rdA, ht, List.drop_left' (OwordB_length E 8), List.take_left' (OwordB_length a 4), leNat_wordB, Nat.mod_eq_of_lt]
  have : (2 : Nat) ^ (8 * 4) = 4294967296 := by decide
  omega
theorem rdHead_headB {E a : Nat} (hE : E ≤ 18446744073709551615) (h1 : 1 ≤ a) (h2 : a ≤ 256) : rdHead (headB E a) = (E, a) := by
  have hs : sectN (a : Int) ≠ 0 := by have := sectN_ok (a := (a : Int)) (by omega) (by omega); omega
  rw [rdHead, rdE_headB hE, rdA_headB h2, if_pos ⟨hs, rfl⟩]

/-- The heads on a disk whose journal is in epoch E. -/
structure Hds (B : List UInt8) (C : Ca) (area E : Nat) : Prop where
  now : look B C (E % 2) = headB E area
  first : E = 0 → rdHead (look B C 1) = (0, 0)
  last : 1 ≤ E → look B C ((E - 1) % 2) = headB (E - 1) area
theorem Hds.cnts {B : List UInt8} {C : Ca} {area E : Nat} (h : Hds B C area E) (hE : E ≤ 4294967296) (h1 : 1 ≤ area) (h2 : area ≤ 256) : cnts B C 2 = (E, area) ∧ ∀ i, i < 2 → (rdHead (look B C i)).1 ≤ 9223372036854775807 := by
  have hn := h.now
  have r1 := rdHead_headB (E := E) (a := area) (by omega) h1 h2
  show cnt1 (rdHead (look B C 1)) 1 (cnt1 (rdHead (look B C 0)) 0 (0, 0)) = (E, area) ∧ _
  rcases Nat.eq_zero_or_pos E with rfl | hp
  · have hf := h.first rfl
    rw [show (0 : Nat) % 2 = 0 from rfl] at hn
    refine ⟨by rw [hf, hn, r1]; simp [cnt1]; omega, fun i hi => ?_⟩
    rcases (show i = 0 ∨ i = 1 by omega) with rfl | rfl
    · rw [hn, r1]; simp
    · rw [hf]; simp
  · have hl := h.last hp
    have r2 := rdHead_headB (E := E - 1) (a := area) (by omega) h1 h2
    rcases Nat.mod_two_eq_zero_or_one E with he | he
    · rw [he] at hn
      rw [show (E - 1) % 2 = 1 by omega] at hl
      refine ⟨?_, fun i hi => ?_⟩
      · rw [hn, hl, r1, r2]
        unfold cnt1
        simp only
        rw [if_pos (show 0 < area ∧ E % 2 = 0 ∧ 0 ≤ E by omega), if_neg (by simp only; omega)]
      · rcases (show i = 0 ∨ i = 1 by omega) with rfl | rfl
        · rw [hn, r1]; simp only; omega
        · rw [hl, r2]; simp only; omega
    · rw [he] at hn
      rw [show (E - 1) % 2 = 0 by omega] at hl
      refine ⟨?_, fun i hi => ?_⟩
      · rw [hn, hl, r1, r2]
        unfold cnt1
        simp only
        rw [if_pos (show 0 < area ∧ (E - 1) % 2 = 0 ∧ 0 ≤ E - 1 by omega), if_pos (by simp only; omega)]
      · rcases (show i = 0 ∨ i = 1 by omega) with rfl | rfl
        · rw [hl, r2]; simp only; omega
        · rw [hn, r1]; simp only; omega

/-- What is read behind a beginning. -/
theorem look_beg {B : List UInt8} {C : Ca} {E area : Nat} {rs : List (UInt8 × List UInt8)} (hC : ∀ x, some x ∈ C → x.length = 256) (hB : B.length = 256 * C.length) (hs : 2 + 2 * area ≤ C.length) (hf : (recsB (fstC E) rs).length ≤ area * 256) {i : Nat} (hi : i < C.length) :
    look (begB B C E area rs) (noC C.length) i = if i = E % 2 then headB E area else if 2 + E % 2 * area ≤ i ∧ i < 2 + E % 2 * area + area then sect (pad (area * 256) (recsB (fstC E) rs)) (i - (2 + E % 2 * area)) else look B C i := by
  have hfs : 2 + E % 2 * area + area ≤ C.length := by
    have h2 : E % 2 * area ≤ 1 * area := Nat.mul_le_mul_right _ (by omega)
    omega
  have hpl : (pad (area * 256) (recsB (fstC E) rs)).length = area * 256 := pad_length hf
  have h1 := wr_ok hC (2 + E % 2 * area) (pad (area * 256) (recsB (fstC E) rs)) area (by rw [hpl]; exact Nat.le_refl _)
  have hl1 := wr_length C (2 + E % 2 * area) (pad (area * 256) (recsB (fstC E) rs)) area
  have hlk := look_wr (B := B) (C := C) (a := 2 + E % 2 * area) (b := pad (area * 256) (recsB (fstC E) rs)) i area hfs
  have hfl := look_flush (B := B) h1 (by rw [hl1]; exact hB) (j := i) (by rw [hl1]; exact hi)
  rw [hl1, hlk] at hfl
  have hbl : (settle (wr C (2 + E % 2 * area) (pad (area * 256) (recsB (fstC E) rs)) area) (idx 0 (wr C (2 + E % 2 * area) (pad (area * 256) (recsB (fstC E) rs)) area)) B).length = 256 * C.length := by
    rw [settle_len h1 _ _ (fun j hj => by have := idx_lt _ 0 j hj; rw [hl1] at this; omega), hB]
  unfold begB
  simp only
  generalize settle (wr C (2 + E % 2 * area) (pad (area * 256) (recsB (fstC E) rs)) area) (idx 0 (wr C (2 + E % 2 * area) (pad (area * 256) (recsB (fstC E) rs)) area)) B = B1 at *
  have h2 : ∀ x, some x ∈ (noC C.length).set (E % 2) (some (headB E area)) → x.length = 256 := set_ok (fun x hx => by simp [noC] at hx) (headB_length E area) _
  have hl2 : ((noC C.length).set (E % 2) (some (headB E area))).length = C.length := by rw [List.length_set, noC_len]
  have hg := look_flush (B := B1) h2 (by rw [hl2]; exact hbl) (j := i) (by rw [hl2]; exact hi)
  rw [hl2, look_set (by rw [noC_len]; omega)] at hg
  rw [hg, hfl]
/-- The area behind a beginning. -/
theorem rdS_beg {B : List UInt8} {C : Ca} {E area : Nat} {rs : List (UInt8 × List UInt8)} (hC : ∀ x, some x ∈ C → x.length = 256) (hB : B.length = 256 * C.length) (hs : 2 + 2 * area ≤ C.length) (hf : (recsB (fstC E) rs).length ≤ area * 256) :
    rdS (begB B C E area rs) (noC C.length) (2 + E % 2 * area) area = pad (area * 256) (recsB (fstC E) rs) := by
  have hfs : 2 + E % 2 * area + area ≤ C.length := by
    have h2 : E % 2 * area ≤ 1 * area := Nat.mul_le_mul_right _ (by omega)
    omega
  refine rdS_of (pad_length hf) fun k hk => ?_
  rw [look_beg hC hB hs hf (by omega), if_neg (by omega), if_pos (by omega)]
  congr 1
  omega
end Go.Proofs.YtgpfognglpfmoaaGreatDoor
end
section
/- A journal: Format. -/
namespace Go.Proofs.YtgpfognglpfmoaaGreatDoor
set_option maxRecDepth 8192
set_option linter.unusedSimpArgs false
set_option linter.unusedVariables false
open Go.RowKit

section
variable {w : World} {p s m area : Nat} {B : List UInt8} {C : Ca}
theorem jd_beg {w' : World} {J L E : Nat} {v : Value} {rs : List (UInt8 × List UInt8)} (hC : ∀ x, some x ∈ C → x.length = 256) (hB : B.length = 256 * C.length) (hj : Bk w' J (jc p area L rs.length)) (hl : Lg w' 0 L E rs v) (hd : Dk w' p s m (begB B C E area rs) (noC C.length))
    (hE : E ≤ 4294967296) (h1 : 1 ≤ area) (h2 : area ≤ 256) (hs : 2 + 2 * area ≤ C.length) (hf : (recsB (fstC E) rs).length ≤ area * 256) (hv : Vrs rs) (hJ : J ≠ p ∧ J ≠ s ∧ J ≠ m) (hL : ∀ k, k = J ∨ k = p ∨ k = s ∨ k = m → k ≠ L ∧ v.ownBlock ≠ some k) :
    Jd w' J p s m L v area E rs rs.length (begB B C E area rs) (noC C.length) :=
  ⟨hj, hl, hd, hE, h1, h2, by rw [noC_len]; exact hs, rdS_beg hC hB hs hf, hf, hv, hJ, hL⟩
theorem Format_nil (w : World) (a : Int) : Calls Tryz.prog 8 #[.pointer none, .int .i64 a] w fun e w' => e = .returned (.tuple #[.pointer none, .int .i64 1]) ∧ w' = w := by
  have HS := Lib.hid (size_nil w)
  go_enter Tryz.func8, Tryz.ntmps8
  go_wp2_with (go_at_call 40; refine HS.out.mono ?_; rintro e w' ⟨rfl, hw⟩; subst w')
  go_ret2
  exact ⟨rfl, rfl⟩
set_option maxHeartbeats 800000 in
theorem Format_bad (hd : Dk w p s m B C) (a : Int) (hb : sectN a = 0 ∨ C.length < sectN a) :
    Calls Tryz.prog 8 #[ptr p, .int .i64 a] w fun e w' => e = .returned (.tuple #[.pointer none, .int .i64 2]) ∧ w' = w := by
  have HSZ := Lib.hid (size_any hd)
  have HSE := Lib.hid (Sectors_any a w)
  have h0 := hd.h0
  clear hd
  generalize sectN a = n0 at *
  generalize C.length = cl at *
  have hz1 : ((cl : Int) == 0) = false := by rw [beq_eq_false_iff_ne]; omega
  by_cases hz : n0 = 0
  · subst hz
    clear hb
    go_enter Tryz.func8, Tryz.ntmps8
    go_wp2_with (first | (go_at_call 40; refine HSZ.out.mono ?_; rintro e w' ⟨rfl, hw⟩; subst w') | (go_at_call 17; refine HSE.out.mono ?_; rintro e w' ⟨rfl, hw⟩; subst w'))
    go_ret2
    exact ⟨rfl, rfl⟩
  · have hz2 : ((n0 : Int) == 0) = false := by rw [beq_eq_false_iff_ne]; omega
    have hz3 : (cl : Int) < (n0 : Int) := by omega
    clear hb
    go_enter Tryz.func8, Tryz.ntmps8
    go_wp2_with (first | (go_at_call 40; refine HSZ.out.mono ?_; rintro e w' ⟨rfl, hw⟩; subst w') | (go_at_call 17; refine HSE.out.mono ?_; rintro e w' ⟨rfl, hw⟩; subst w'))
    go_ret2
    exact ⟨rfl, rfl⟩
set_option maxHeartbeats 1600000 in
theorem Format_j (hd : Dk w p s m B C) (h1 : 1 ≤ area) (h2 : area ≤ 256) (hs : 2 + 2 * area ≤ C.length) :
    Calls Tryz.prog 8 #[ptr p, .int .i64 (area : Int)] w fun e w' => ∃ J L, e = .returned (.tuple #[pt0 J, .int .i64 0]) ∧ Jd w' J p s m L (.slice none 0 0) area 0 [] 0 (begB B (C.set 1 (some (List.replicate 256 0))) 0 area []) (noC C.length) ∧
      w.heap.size ≤ J ∧ w.heap.size ≤ L ∧ Kp (fun k => k = s ∨ k = m) w w' := by
  have HSZ := Lib.hid (size_any hd)
  have HSE := Lib.hid (Sectors_any (area : Int) w)
  have hsn := sectN_ok (a := (area : Int)) (by omega) (by omega)
  have hC16 := hd.h1
  obtain ⟨n0, hn0⟩ : ∃ n0, n0 = sectN (area : Int) := ⟨_, rfl⟩
  rw [← hn0] at HSE hsn
  have HSN := Lib.hid hsn
  have hn1 : 1 ≤ n0 := by omega
  have hnl : n0 ≤ C.length := by omega
  have HD := Lib.hid hd
  have HCL := Lib.hid hs
  have hmk : (Instr.makeSlice 31 (.int .i64 256) (.int .i64 256)).run Tryz.prog w = _ := run_make8 w 256 (by omega)
  clear hd hn0 hsn hs
  obtain ⟨cl, hcl⟩ : ∃ cl, cl = C.length := ⟨_, rfl⟩
  have HCC := Lib.hid hcl
  rw [← hcl] at HSZ hnl hC16
  clear hcl
  have hz1 : ((cl : Int) == 0) = false := by rw [beq_eq_false_iff_ne]; omega
  have hz2 : ((n0 : Int) == 0) = false := by rw [beq_eq_false_iff_ne]; omega
  have hz3 : ¬ ((cl : Int) < (n0 : Int)) := by omega
  go_enter Tryz.func8, Tryz.ntmps8
  go_wp2_with (first | (go_at_call 40; refine HSZ.out.mono ?_; rintro e w' ⟨rfl, hw⟩; subst w') | (go_at_call 17; refine HSE.out.mono ?_; rintro e w' ⟨rfl, hw⟩; subst w'))
  have hrow : Row (w.alloc (.cells (cs8 (List.replicate 256 0)).toArray 5)) w.heap.size (List.replicate 256 0) := heap_alloc_new w _
  have HZ := Lib.hid hrow
  have HB1 := Lib.hid (bl_alloc (bl0 w) (.cells (cs8 (List.replicate 256 0)).toArray 5))
  have HD1 := Lib.hid (HD.out.old HB1.out)
  have hrd := hrow.rd
  rw [List.length_replicate] at hrd
  have HWR := Lib.hid (write_ok HD1.out 1 (by have := HCL.out; omega) hrd)
  clear hrow hrd hmk
  refine HWR.out.mono ?_
  rintro e w2 ⟨rfl, hd2, hk2⟩
  have HD2 := Lib.hid hd2
  have HK2 := Lib.hid hk2
  clear hd2 hk2
  go_wp2_with fail
  have hlen : (C.set 1 (some (List.replicate 256 (0 : UInt8)))).length = C.length := List.length_set
  generalize hc2 : C.set 1 (some (List.replicate 256 (0 : UInt8))) = C2 at *
  have HC2 := Lib.hid hc2
  clear hc2
  have hkw : Kp (fun x => x = m) w w2 := (Kp.of_old (may := fun x => x = m) HB1.out).via HK2.out (fun _ _ e => e)
  have HKW := Lib.hid hkw
  have HJ3 := Lib.hid (Bk.new w2 [ptr p, .int .i64 (area : Int), .pointer none, .int .i64 0] 83)
  have HD3 := Lib.hid (HD2.out.old (bl_alloc (bl0 w2) (.cells #[ptr p, .int .i64 (area : Int), .pointer none, .int .i64 0] 83)))
  have HNL := Lib.hid (newLog_any 0 (by omega) (w2.alloc (.cells #[ptr p, .int .i64 (area : Int), .pointer none, .int .i64 0] 83)))
  have hs3 : (w2.alloc (.cells #[ptr p, .int .i64 (area : Int), .pointer none, .int .i64 0] 83)).heap.size = w2.heap.size + 1 := by simp
  have HB3 := Lib.hid (bl_alloc (bl0 w2) (.cells #[ptr p, .int .i64 (area : Int), .pointer none, .int .i64 0] 83))
  have HSW := Lib.hid hkw.size
  clear hkw HB1 HD1 HWR HK2 HZ
  refine HNL.out.mono ?_
  rintro e w4 ⟨L, rfl, hL, hlg, hb4⟩
  rw [hs3] at hL
  have hJ4 := HJ3.out.keep hb4
  have hD4 := HD3.out.old hb4
  have hlg0 : Lg w4 0 L 0 [] (.slice none 0 0) := { hlg with row := hlg.row.lower (Nat.zero_le _), hg := Nat.zero_le _ }
  have hplt := HD2.out.plt
  have hslt := HD2.out.slt
  have hmlt := HD2.out.mlt
  have HBG := Lib.hid (begin_v (area := area) (L0 := .pointer none) (syn := 0) hJ4 hlg0 hD4 (fun k hk => ⟨by omega, by omega, fun e => by cases e⟩) (by omega) (by omega) (fun e => by cases e) (by omega) h1 h2 (by have := HCL.out; omega) (by simp [recsB]))
  have HB4 := Lib.hid hb4
  clear hJ4 hD4 hlg hlg0 HNL HJ3 HD3 hb4
  go_wp2_with fail
  refine HBG.out.mono ?_
  rintro e w5 ⟨rfl, hj5, hl5, hd5, hk5⟩
  have HJ5 := Lib.hid hj5
  have HL5 := Lib.hid hl5
  have HD5 := Lib.hid hd5
  have HK5 := Lib.hid hk5
  clear hj5 hl5 hd5 hk5 HBG
  go_wp2
  go_ret2
  have hb34 : Below w2.heap.size w2 w4 := HB3.out.trans (HB4.out.mono (by omega))
  have hsw := HSW.out
  refine ⟨w2.heap.size, L, rfl, ?_, hsw, by omega, ?_⟩
  · have := jd_beg (rs := []) HD2.out.hC HD2.out.hB HJ5.out HL5.out HD5.out (by omega) h1 h2 (by have := HCL.out; omega) (by simp [recsB]) (fun r hr => by cases hr) ⟨by omega, by omega, by omega⟩ (fun k hk => ⟨by omega, fun e => by cases e⟩)
    rw [HC2.out, ← hlen]
    exact this
  · have h4 := HK5.out
    have h2 := HKW.out
    refine ⟨h4.os.trans (hb34.os.trans h2.os), h4.tape.trans (hb34.tape.trans h2.tape), h4.output.trans (hb34.output.trans h2.output), ?_, fun x hx hm => ?_⟩
    · have := h4.size; have := hb34.size; omega
    · have := hb34.size
      refine (h4.block x (by omega) (fun e => ?_)).trans ((hb34.block x (by omega)).trans (h2.block x hx (fun e => hm (.inr e))))
      rcases e with e | e | e
      · omega
      · exact hm (.inl e)
      · exact hm (.inr e)
end
end Go.Proofs.YtgpfognglpfmoaaGreatDoor
end
section
/- A journal that nobody made. -/
namespace Go.Proofs.YtgpfognglpfmoaaGreatDoor
set_option maxRecDepth 8192
set_option linter.unusedSimpArgs false
set_option linter.unusedVariables false
open Go.RowKit

theorem Sync_nil (w : World) : Calls Tryz.prog 12 #[.pointer none] w fun e w' => e = .returned (.int .i64 1) ∧ w' = w := by
  go_enter Tryz.func12, Tryz.ntmps12
  go_wp2_with (go_at_call 45; refine (made_j_nil _).mono ?_; rintro e w' ⟨rfl, hw⟩; subst w')
  go_ret
  exact ⟨rfl, rfl⟩
theorem Switch_nil (w : World) (v : Value) : Calls Tryz.prog 13 #[.pointer none, v] w fun e w' => e = .returned (.int .i64 1) ∧ w' = w := by
  go_enter Tryz.func13, Tryz.ntmps13
  go_wp2_with (go_at_call 45; refine (made_j_nil _).mono ?_; rintro e w' ⟨rfl, hw⟩; subst w')
  go_ret
  exact ⟨rfl, rfl⟩
theorem Records_nil (w : World) : Calls Tryz.prog 14 #[.pointer none] w fun e w' => e = .returned (.slice none 0 0) ∧ w' = w := by
  go_enter Tryz.func14, Tryz.ntmps14
  go_wp2_with (go_at_call 45; refine (made_j_nil _).mono ?_; rintro e w' ⟨rfl, hw⟩; subst w')
  go_ret
  exact ⟨rfl, rfl⟩
theorem Epoch_nil (w : World) : Calls Tryz.prog 16 #[.pointer none] w fun e w' => e = .returned (.int .u64 0) ∧ w' = w := by
  go_enter Tryz.func16, Tryz.ntmps16
  go_wp2_with (go_at_call 45; refine (made_j_nil _).mono ?_; rintro e w' ⟨rfl, hw⟩; subst w')
  go_ret
  exact ⟨rfl, rfl⟩
theorem Left_nil (w : World) : Calls Tryz.prog 33 #[.pointer none] w fun e w' => e = .returned (.int .i64 0) ∧ w' = w := by
  go_enter Tryz.func33, Tryz.ntmps33
  go_wp2_with (go_at_call 45; refine (made_j_nil _).mono ?_; rintro e w' ⟨rfl, hw⟩; subst w')
  go_ret
  exact ⟨rfl, rfl⟩
theorem Synced_nil (w : World) : Calls Tryz.prog 11 #[.pointer none] w fun e w' => e = .returned (.int .i64 0) ∧ w' = w := by
  go_enter Tryz.func11, Tryz.ntmps11
  go_wp2_with (go_at_call 45; refine (made_j_nil _).mono ?_; rintro e w' ⟨rfl, hw⟩; subst w')
  go_ret
  exact ⟨rfl, rfl⟩
theorem Open_nil (w : World) : Calls Tryz.prog 9 #[.pointer none] w fun e w' => e = .returned (.tuple #[.pointer none, .int .i64 1]) ∧ w' = w := by
  have HS := Lib.hid (size_nil w)
  go_enter Tryz.func9, Tryz.ntmps9
  go_wp2_with (go_at_call 40; refine HS.out.mono ?_; rintro e w' ⟨rfl, hw⟩; subst w')
  go_ret2
  exact ⟨rfl, rfl⟩
end Go.Proofs.YtgpfognglpfmoaaGreatDoor
end
section
/- A journal: Switch. -/
namespace Go.Proofs.YtgpfognglpfmoaaGreatDoor
set_option maxRecDepth 8192
set_option linter.unusedSimpArgs false
set_option linter.unusedVariables false
open Go.RowKit

theorem recsB_len_take (C : List UInt8) (rs : List (UInt8 × List UInt8)) {i : Nat} {x : UInt8 × List UInt8} (h : rs[i]? = some x) : (recsB C (rs.take (i + 1))).length = (recsB C (rs.take i)).length + (1 + (numSize x.2.length + x.2.length) + 8) := by
  rw [List.take_add_one, h, recsB_append, List.length_append]
  simp [recsB, recB_length]
theorem recsB_take_le (C : List UInt8) (rs : List (UInt8 × List UInt8)) (i : Nat) : (recsB C (rs.take i)).length ≤ (recsB C rs).length := by
  conv => rhs; rw [← List.take_append_drop i rs, recsB_append, List.length_append]
  omega
theorem take_map_succ {l : List Rv} {i : Nat} {x : Rv} (h : l[i]? = some x) : (l.map Rv.r).take (i + 1) = (l.map Rv.r).take i ++ [(x.k, x.d)] := by
  rw [List.take_add_one, List.getElem?_map, h]; rfl

section
variable {w : World} {J p s m area L0 syn E : Nat} {B : List UInt8} {C : Ca} {v0 : Value} {lr n0 : Int} {ch : List UInt8}
set_option maxHeartbeats 3200000 in
theorem Switch_v (hj : Bk w J (jc p area L0 syn)) (hl : Bk w L0 (lg (E : Int) v0 lr n0 ch)) (hd : Dk w p s m B C) {A : Option Addr} {n c : Nat} {l : List Rv} (hr : Rs w w.heap.size A n c l) (hn : n ≤ 1048576) (hv : Vrs (l.map Rv.r))
    (hE : E ≤ 4294967294) (h1 : 1 ≤ area) (h2 : area ≤ 256) (hs : 2 + 2 * area ≤ C.length) (hf : (recsB (fstC (E + 1)) (l.map Rv.r)).length ≤ area * 256) (hJ : J ≠ s ∧ J ≠ m ∧ J ≠ p) :
    Calls Tryz.prog 13 #[pt0 J, .slice A n c] w fun e w' => ∃ L v, e = .returned (.int .i64 0) ∧ Bk w' J (jc p area L n) ∧ Lg w' 0 L (E + 1) (l.map Rv.r) v ∧ Dk w' p s m (begB B C (E + 1) area (l.map Rv.r)) (noC C.length) ∧
      w.heap.size ≤ L ∧ (∀ k, v.ownBlock = some k → w.heap.size ≤ k) ∧ Kp (fun k => k = J ∨ k = s ∨ k = m) w w' := by
  have HM := Lib.hid (made_j hj)
  have HR := Lib.hid hr
  have HJ := Lib.hid hj
  have HL := Lib.hid hl
  have HD := Lib.hid hd
  have HV := Lib.hid hv
  have HHS := Lib.hid hs
  have HHF := Lib.hid hf
  have HHJ := Lib.hid hJ
  have hfz : (recsB (fstC (E + 1)) (l.map Rv.r)).length ≤ 65536 := by omega
  have hfk : (recsB (fstC (E + 1)) (l.map Rv.r)).length ≤ area * 256 := hf
  have HTL := Lib.hid (fun i => recsB_take_le (fstC (E + 1)) (l.map Rv.r) i)
  have hln : l.length = n := hr.1
  have HLN := Lib.hid hln
  have HRM := Lib.hid (fun (W : World) (h : Bk W J (jc p area L0 syn)) => room_j h h2)
  have HKE : Hid (∃ K, K = area * 256) := Lib.hid ⟨_, rfl⟩
  obtain ⟨K, hK⟩ := HKE.out
  rw [← hK] at HRM hfk
  have hK2 : K ≤ 65536 := by omega
  have HK := Lib.hid hK
  clear hK HKE
  have HSS : Hid (∃ S, S = fstC (E + 1)) := Lib.hid ⟨_, rfl⟩
  obtain ⟨S, hS⟩ := HSS.out
  have HS := Lib.hid hS
  rw [← hS] at HTL hfz hfk
  clear HSS hS hr hj hl hd hv hs hf hJ
  generalize hZ : (recsB S (l.map Rv.r)).length = Z at *
  have HZZ := Lib.hid hZ
  clear hZ
  go_enter Tryz.func13, Tryz.ntmps13
  go_wp2_with (go_at_call 45; refine HM.out.mono ?_; rintro e w' ⟨rfl, hw⟩; subst w')
  go_loopw [5, 17] (fun v5 v17 wr => ∃ (i z : Nat), i ≤ n ∧ v17 = .int .i64 (i : Int) ∧ v5 = .int .i64 (z : Int) ∧ Hid (z = (recsB S ((l.map Rv.r).take i)).length) ∧ Hid (Below w.heap.size w wr)) (fun _ v17 _ => n - (intOf v17).toNat)
  case atStart => exact ⟨0, 0, by omega, rfl, rfl, Lib.hid (by simp [recsB]), Lib.hid (bl0 w)⟩
  case round =>
    obtain ⟨i, z, hi, rfl, rfl, HZ, HB⟩ := hrel
    by_cases hlt : i < n
    · obtain ⟨ad, x, rfl, hx, hm, ho, c0, c1⟩ := (HR.out.below HB.out).at_ hlt
      have hvx : Vr x.k x.d := HV.out _ (List.mem_map_of_mem hm)
      have hn8 := hvx.2
      have hk0 := hvx.1
      have hrx : (l.map Rv.r)[i]? = some (x.k, x.d) := by rw [List.getElem?_map, hx]; rfl
      have HT := Lib.hid (recsB_len_take S (l.map Rv.r) hrx)
      have hzb : z ≤ 65536 := by have := HTL.out i; have := HZ.out; omega
      have hnb := numSize_bd x.d.length
      have HB1 := Lib.hid (bl_call HB.out (bl_alloc (bl0 wr) (.cells #[.int .u8 (x.k.toNat : Int), .slice x.A x.d.length x.c] 33)))
      have HX1 := Lib.hid (Bk.new wr [.int .u8 (x.k.toNat : Int), .slice x.A x.d.length x.c] 33)
      clear hvx hrx ho hm hx
      go_wp2_with fail
      refine (Check_good _ hk0 hn8).mono ?_; rintro e w2 ⟨rfl, hb2⟩
      have HB2 := Lib.hid (bl_call HB1.out hb2)
      have d0 := (HX1.out.keep hb2).cell (k := 0) rfl
      have d1 := (HX1.out.keep hb2).cell (k := 1) rfl
      have hwz := hb2.size
      clear hb2 HX1 HB1 c0 c1
      go_wp2_with fail
      refine (Size_good _ hk0 hn8).mono ?_; rintro e w3 ⟨rfl, hb3⟩
      have HB3 := Lib.hid (bl_call HB2.out hb3)
      clear hb3 HB2 d0 d1
      have hszb : 1 + (numSize x.d.length + x.d.length) + 8 ≤ 8210 := by omega
      generalize hsz : 1 + (numSize x.d.length + x.d.length) + 8 = sz at *
      have HSZ := Lib.hid hsz
      clear hsz
      go_wp2
      go_roundw
      case rel => exact ⟨i + 1, z + sz, by omega, by go_num, by go_num, Lib.hid (by rw [HT.out, HZ.out]; first | done | rw [HSZ.out]), HB3⟩
      case measure => simp [intOf]; omega
    · obtain rfl : i = n := by omega
      have hzK : z ≤ K := by have := HTL.out i; have := HZ.out; omega
      have hz6 : ¬ ((z : Int) > (K : Int)) := by omega
      have hJr := HJ.out.keep HB.out
      have hLr := HL.out.keep HB.out
      have c2 : wr.cell? ⟨J, 2, none⟩ = some (pt0 L0) := hJr.cell rfl
      have cE : wr.cell? ⟨L0, 0, none⟩ = some (.int .u64 (E : Int)) := hLr.cell rfl
      have HJr := Lib.hid hJr
      clear hJr hLr
      go_wp2_with (go_at_call 58; refine (HRM.out _ HJr.out).mono ?_; rintro e w' ⟨rfl, hw⟩; subst w')
      have HNL := Lib.hid (newLog_any (E + 1) (by omega) wr)
      rw [show ((E + 1 : Nat) : Int) = (E : Int) + 1 from by omega] at HNL
      refine HNL.out.mono ?_
      rintro e w4 ⟨L, rfl, hL, hlg, hb4⟩
      have hwr := HB.out.size
      have HLg4 := Lib.hid ({ hlg with row := hlg.row.lower (show w.heap.size ≤ L by omega), hg := (show w.heap.size ≤ L by omega) } : Lg w4 w.heap.size L (E + 1) [] (.slice none 0 0))
      have HB4 := Lib.hid (bl_call HB.out hb4)
      have HL4 := Lib.hid (show w.heap.size ≤ L by omega)
      clear hlg hb4 HNL hL HJr c2 cE HB HZ hzK hz6
      go_wp2
      go_loopw [46] (fun v46 W => ∃ (k : Nat) (v : Value), k ≤ i ∧ v46 = .int .i64 (k : Int) ∧ Hid (Lg W w.heap.size L (E + 1) ((l.map Rv.r).take k) v) ∧ Hid (Below w.heap.size w W)) (fun v46 _ => i - (intOf v46).toNat)
      case atStart => exact ⟨0, _, by omega, rfl, Lib.hid HLg4.out, Lib.hid HB4.out⟩
      case round =>
        clear HLg4 HB4
        obtain ⟨k, v, hki, rfl, HLG, HBW⟩ := hrel
        have hbw := HBW.out.size
        have HOW := Lib.hid (fun j (e : v.ownBlock = some j) => (World.ownsRow.lt HLG.out.row j e).1)
        by_cases hlk : k < i
        · obtain ⟨ad, x, rfl, hx, hm, ho, c0, c1⟩ := (HR.out.below HBW.out).at_ hlk
          have hvx : Vr x.k x.d := HV.out _ (List.mem_map_of_mem hm)
          have HVX := Lib.hid hvx
          have HTK := Lib.hid (take_map_succ hx)
          have hba := bl_alloc (bl0 wr) (.cells #[.int .u8 (x.k.toNat : Int), .slice x.A x.d.length x.c] 33)
          have HB1 := Lib.hid (bl_call HBW.out hba)
          have HX1 := Lib.hid (Bk.new wr [.int .u8 (x.k.toNat : Int), .slice x.A x.d.length x.c] 33)
          have hLk : (recsB (fstC (E + 1)) ((l.map Rv.r).take k)).length ≤ 1048576 := by have := HTL.out k; rw [HS.out] at this; omega
          have HAD := Lib.hid (add_any (HLG.out.old hba) x.k x.d (Rd.more (Rd.below ho (hba.mono hbw)) (Nat.le_trans hbw hba.size)) hvx hLk (Nat.le_trans hbw hba.size))
          have d0 := HX1.out.cell (k := 0) rfl
          have d1 := HX1.out.cell (k := 1) rfl
          clear hvx hm ho hx hba HLG HX1 hLk
          go_wp2_with fail
          refine HAD.out.mono ?_; rintro e w5 ⟨rfl, v', hlg', hown', hk'⟩
          have HLG2 := Lib.hid hlg'
          have hbs := HB1.out.size
          have hb5 := bl_kp HB1.out hk' (fun j hj => by
            rcases hj with e | e
            · have := HL4.out; omega
            · exact HOW.out j e)
          have HB5 := Lib.hid hb5
          clear hlg' hown' hk' hb5 HAD HB1 d0 d1 c0 c1
          go_wp2
          go_roundw
          case rel => exact ⟨k + 1, v', by omega, by go_num, Lib.hid (by rw [HTK.out]; exact HLG2.out), HB5⟩
          case measure => simp [intOf]; omega
        · obtain rfl : k = i := by omega
          have htk : (l.map Rv.r).take k = l.map Rv.r := List.take_of_length_le (by rw [List.length_map]; exact Nat.le_of_eq HLN.out)
          rw [htk] at HLG
          have hLg0 : Lg wr 0 L (E + 1) (l.map Rv.r) v := { HLG.out with row := HLG.out.row.lower (Nat.zero_le _), hg := Nat.zero_le _ }
          have hlj : J < w.heap.size := HJ.out.lt
          have hls : s < w.heap.size := HD.out.slt
          have hlm : m < w.heap.size := HD.out.mlt
          have hL4 := HL4.out
          have HBG := Lib.hid (begin_v (E := E + 1) (show Bk wr J (jv p area (pt0 L0) syn) from HJ.out.keep HBW.out) hLg0 (HD.out.old HBW.out)
            (fun j hj => ⟨by rcases hj with e | e; exact e ▸ HHJ.out.1; exact e ▸ HHJ.out.2.1, by omega, fun e => by have := HOW.out j e; omega⟩) HHJ.out.2.2 (by omega) (fun e => by have := HOW.out J e; omega) (by omega) h1 h2 HHS.out HHF.out)
          clear hLg0 htk HTL
          go_wp2_with fail
          refine HBG.out.mono ?_
          rintro e w6 ⟨rfl, hj6, hl6, hd6, hk6⟩
          have HJ6 := Lib.hid hj6
          have HL6 := Lib.hid hl6
          have HD6 := Lib.hid hd6
          have HK6 := Lib.hid hk6
          clear hj6 hl6 hd6 hk6 HBG
          go_wp2
          go_ret
          have hj6 := HJ6.out
          rw [List.length_map, HLN.out] at hj6
          exact ⟨L, v, rfl, hj6, HL6.out, HD6.out, hL4, HOW.out, (Kp.of_old HBW.out).via HK6.out (fun _ _ e => e)⟩
end
end Go.Proofs.YtgpfognglpfmoaaGreatDoor
end
