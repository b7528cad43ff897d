package driver_test

import (
	"math"
	"slices"
	"strings"
	"testing"

	"lighterman/api"
	"lighterman/batch"
	"lighterman/conf"
	"lighterman/driver"
	"lighterman/frame"
	"lighterman/life"
	"lighterman/msg"
	"lighterman/plan"
	"lighterman/scene"
	"lighterman/span"
)

func round(s *scene.Scene) driver.Report {
	a, b := s.Chains[0], s.Chains[1]
	return driver.Round(a, b, s.Conf, a.Records(), b.Records())
}

func prepare(s *scene.Scene) driver.Report {
	a, b := s.Chains[0], s.Chains[1]
	return driver.Prepare(a, b, s.Conf, a.Records(), b.Records())
}

func isEmpty(r driver.Report) bool {
	return len(r.Items)+len(r.Skipped)+len(r.Txs)+len(r.MissA)+len(r.MissB)+r.Bad == 0
}

func sameReport(x, y driver.Report) bool {
	return slices.Equal(x.Items, y.Items) && slices.Equal(x.Skipped, y.Skipped) && slices.Equal(x.MissA, y.MissA) && slices.Equal(x.MissB, y.MissB) && x.Bad == y.Bad &&
		slices.EqualFunc(x.Txs, y.Txs, func(s, t driver.Sent) bool {
			return s.To == t.To && s.Tx == t.Tx && slices.Equal(s.Items, t.Items) && s.Done.Code == t.Done.Code && s.Done.Gas == t.Done.Gas && slices.Equal(s.Done.Results, t.Done.Results)
		})
}

func TestRead(t *testing.T) { // P29.1
	s := scene.New()
	a := s.Chains[0]
	if table, miss, bad := driver.Read(a, nil); len(table.Keys()) != 0 || len(miss) != 0 || bad != 0 {
		t.Errorf("Read of no records: %v, %d", miss, bad)
	}
	p := s.Send(0, scene.Open(0), "p", 0, 0)
	a.Commit()
	a.Commit()
	q := s.Send(0, scene.Open(0), "q", 0, 0)
	a.Commit()
	l := a.Records()
	table, miss, bad := driver.Read(a, []string{l[2], l[2][:5], l[0], "", l[0] + "x"})
	if !slices.Equal(miss, []span.Range{{From: 2, To: 2}}) || bad != 3 {
		t.Errorf("Read: %v, %d", miss, bad)
	}
	if want := []life.Key{{End: p.Src, Out: true, Seq: 1}, {End: q.Src, Out: true, Seq: 2}}; !slices.Equal(table.Keys(), want) {
		t.Errorf("the table: %v", table.Keys())
	}
	future := scene.New().Chains[0]
	if _, miss, bad := driver.Read(future, l); len(miss) != 0 || bad != 3 {
		t.Errorf("Read of blocks above Last: %v, %d", miss, bad)
	}
	if _, miss, bad := driver.Read(s.Chains[1], l); len(miss) != 0 || bad != 3 {
		t.Errorf("Read of another chain's blocks: %v, %d", miss, bad)
	}
}

func TestDue(t *testing.T) { // P29.1
	for _, c := range []struct {
		interval, turn int
		want           bool
	}{
		{1, 1, true}, {1, 7, true}, {3, 3, true}, {3, 9, true}, {3, 4, false}, {3, 0, false}, {3, -3, false}, {0, 1, false}, {-1, 1, false}, {0, 0, false},
		{conf.MaxInterval, conf.MaxInterval, true}, {conf.MaxInterval + 1, conf.MaxInterval + 1, false}, {1, math.MaxInt, true}, {math.MinInt, math.MaxInt, false},
	} {
		if driver.Due(api.Conf{Interval: c.interval}, c.turn) != c.want {
			t.Errorf("Due(%d, %d) is not %t", c.interval, c.turn, c.want)
		}
	}
}

func TestPrepare(t *testing.T) { // P29.2
	s := scene.New()
	if r := prepare(s); !isEmpty(r) {
		t.Errorf("the first report: %v", r)
	}
	a, b := s.Chains[0], s.Chains[1]
	p, q := s.Send(0, scene.Open(0), "p", 0, 0), s.Send(0, scene.Ordered(0), "q", 0, 0)
	back := s.Send(1, scene.Open(1), "back", 0, 0)
	s.Commit()
	before := []int{len(a.Pairs()), len(b.Pairs()), len(a.States()), len(b.States())}
	r := prepare(s)
	if after := []int{len(a.Pairs()), len(b.Pairs()), len(a.States()), len(b.States())}; !slices.Equal(before, after) {
		t.Error("Prepare has changed a chain")
	}
	tables := s.Tables()
	jobs := plan.Jobs(a, b, s.Conf, tables[0], tables[1])
	if !slices.Equal(r.Items, plan.Items(jobs)) || len(r.Items) != 3 || len(r.Skipped) != 0 || len(r.Txs) != 2 {
		t.Fatalf("the report: %v", r)
	}
	for side, want := range [][]api.Packet{{back}, {p, q}} {
		from, to := s.Chains[1-side], s.Chains[side]
		ms := batch.Update(to, from)
		for i, x := range want {
			ms = append(ms, s.Recv(side, x))
			if r.Txs[side].Items[i] != (api.Item{Kind: api.Recv, To: side, End: x.Src, Seq: x.Seq}) {
				t.Errorf("the items: %v", r.Txs[side].Items)
			}
		}
		tx, _ := msg.Tx(ms)
		if x := r.Txs[side]; x.To != side || x.Tx != tx || len(x.Items) != len(want) || x.Done.Code != 0 || x.Done.Gas != 0 || len(x.Done.Results) != 0 {
			t.Errorf("the transaction to %d: %v", side, x)
		}
	}
	if r := driver.Prepare(a, b, s.Conf, []string{"", "x"}, nil); len(r.Items) != 0 || len(r.Txs) != 0 || r.Bad != 2 || !slices.Equal(r.MissA, []span.Range{{From: 1, To: 1}}) || !slices.Equal(r.MissB, r.MissA) {
		t.Errorf("without records: %v", r)
	}
}

// tight returns a scene whose limits are such that packets with much data fit no transaction.
func tight(t *testing.T) *scene.Scene {
	t.Helper()
	c := scene.Conf()
	c.MaxA.Bytes, c.MaxB.Bytes = 450, 450
	s := scene.Of(c, 1)
	for side := range 2 {
		for _, e := range []api.End{scene.Open(side), scene.Ordered(side)} {
			for _, n := range []int{1, 200, 2} {
				s.Send(side, e, strings.Repeat("x", n), 0, 0)
			}
		}
	}
	return s
}

func TestSkipped(t *testing.T) { // P29.2
	s := tight(t)
	s.Commit()
	r := prepare(s)
	if len(r.Items) != 12 || len(r.Txs) < 4 {
		t.Fatalf("the report: %v", r)
	}
	var want []api.Item
	for side := range 2 {
		for _, x := range []api.Item{{End: scene.Open(1 - side), Seq: 2}, {End: scene.Ordered(1 - side), Seq: 2}, {End: scene.Ordered(1 - side), Seq: 3}} {
			x.Kind, x.To = api.Recv, side
			want = append(want, x)
		}
	}
	if !slices.Equal(r.Skipped, want) {
		t.Errorf("Skipped: %v", r.Skipped)
	}
	var sent []api.Item
	first := [2]bool{true, true}
	for _, x := range r.Txs {
		ms, _ := msg.Untx(x.Tx)
		extra := 0
		if first[x.To] {
			extra = 1 // the Update
		}
		first[x.To] = false
		if len(ms) != len(x.Items)+extra || !batch.Fits(conf.Limits(s.Conf, x.To), ms) || (ms[0].Kind == api.MsgUpdate) != (extra == 1) {
			t.Errorf("the transaction %v", x)
		}
		sent = append(sent, x.Items...)
	}
	for _, x := range r.Items {
		if slices.Contains(sent, x) == slices.Contains(want, x) {
			t.Errorf("%v is sent and skipped, or neither", x)
		}
	}
	for _, x := range round(s).Txs {
		for _, result := range x.Done.Results {
			if result.Code != api.OK {
				t.Errorf("a message is rejected: %v", x.Done)
			}
		}
	}
}

func TestSubmit(t *testing.T) { // P29.2
	s := scene.New()
	a, b := s.Chains[0], s.Chains[1]
	s.Send(0, scene.Open(0), "p", 0, 0)
	s.Send(1, scene.Open(1), "q", 0, 0)
	s.Commit()
	r := prepare(s)
	old := api.Done{Code: 5, Gas: 6, Results: []api.Result{{Code: 7}}}
	r.Txs[0].Done = old
	r.Txs = append(r.Txs, driver.Sent{To: 2, Tx: r.Txs[0].Tx, Done: old}, driver.Sent{To: -1, Tx: "\x00"}, driver.Sent{To: 0, Tx: "\x01"})
	r.Skipped, r.MissA, r.MissB, r.Bad = r.Items, []span.Range{{From: 1, To: 2}}, []span.Range{{From: 3, To: 4}}, 9
	done := driver.Submit(a, b, r)
	codes := []api.Errno{api.OK, api.OK, 5, api.OK, api.ErrShort}
	for i, x := range done.Txs {
		if x.Done.Code != codes[i] || x.To != r.Txs[i].To || x.Tx != r.Txs[i].Tx || !slices.Equal(x.Items, r.Txs[i].Items) {
			t.Errorf("transaction %d: %v", i, x)
		}
	}
	for _, x := range done.Txs[:2] {
		if len(x.Done.Results) != 2 || x.Done.Results[0].Code != api.OK || x.Done.Results[1].Code != api.OK || x.Done.Gas == 0 {
			t.Errorf("the results: %v", x.Done)
		}
	}
	if x := done.Txs[2].Done; x.Gas != 6 || !slices.Equal(x.Results, old.Results) {
		t.Errorf("a transaction to no side: %v", x)
	}
	if !slices.Equal(done.Items, r.Items) || !slices.Equal(done.Skipped, r.Skipped) || !slices.Equal(done.MissA, r.MissA) || !slices.Equal(done.MissB, r.MissB) || done.Bad != 9 || len(done.Txs) != 5 {
		t.Errorf("the report: %v", done)
	}
	if !a.Known(1) || !b.Known(1) || r.Txs[0].Done.Code != 5 {
		t.Error("nothing was submitted, or the argument has changed")
	}
	done.Items[0].Seq, done.Txs[0].Items[0].Seq, done.Txs[2].Done.Results[0].Gas, done.MissA[0].From, done.MissB[0].From, done.Skipped[1].Seq = 99, 99, 99, 99, 99, 99
	if r.Items[0].Seq == 99 || r.Txs[0].Items[0].Seq == 99 || old.Results[0].Gas == 99 || r.MissA[0].From == 99 || r.MissB[0].From == 99 || done.Skipped[0].Seq == 99 || r.Skipped[1].Seq == 99 {
		t.Error("Submit shares memory")
	}
}

func TestRoundIsSubmitOfPrepare(t *testing.T) { // P29.2, P29.3
	x, y := tight(t), tight(t)
	for step := range 6 {
		x.Commit()
		y.Commit()
		want := driver.Submit(y.Chains[0], y.Chains[1], prepare(y))
		again := prepare(x)
		if r := round(x); !sameReport(r, want) || !slices.Equal(r.Items, again.Items) {
			t.Errorf("step %d: %v", step, r)
		}
	}
	if !slices.Equal(x.Chains[0].Records(), y.Chains[0].Records()) || !slices.Equal(x.Chains[1].Headers(), y.Chains[1].Headers()) {
		t.Error("equal chains have become different")
	}
}

func TestRecordsInAnyState(t *testing.T) { // P29.3
	s, other := scene.New(), scene.New()
	for _, x := range []*scene.Scene{s, other} {
		x.Send(0, scene.Ordered(0), "p", 0, 0)
		x.Commit()
		x.Send(0, scene.Ordered(0), "q", 0, 0)
		x.Commit()
	}
	want := prepare(s)
	l := slices.Clone(s.Chains[0].Records())
	slices.Reverse(l)
	if got := driver.Prepare(s.Chains[0], s.Chains[1], s.Conf, append(l, l[0], l[1]), s.Chains[1].Records()); !sameReport(got, want) {
		t.Errorf("records in another order: %v", got)
	}
	bad, _ := frame.Put("x")
	got := driver.Prepare(s.Chains[0], s.Chains[1], s.Conf, append(l, bad), s.Chains[1].Records())
	got.Bad--
	if !sameReport(got, want) || !sameReport(prepare(other), want) {
		t.Errorf("a bad record: %v", got)
	}
}
