package chain_test

import (
	"math"
	"slices"
	"testing"

	"lighterman/api"
	"lighterman/block"
	"lighterman/chain"
	"lighterman/ends"
	"lighterman/frame"
	"lighterman/gas"
	"lighterman/handle"
	"lighterman/msg"
	"lighterman/packet"
	"lighterman/path"
	"lighterman/proof"
	"lighterman/sha"
	"lighterman/store"
)

var (
	near = api.End{Port: "near", Chan: 1}
	far  = api.End{Port: "far", Chan: 2}
)

func setup(name string, own, other api.End) api.Setup {
	return api.Setup{Name: name, Limits: api.Limits{Gas: 100000, Bytes: 10000, Count: 5}, Ends: []api.Gen{{Own: own, Other: other, First: 1}}}
}

func changed(f func(s *api.Setup)) api.Setup {
	s := setup("a", near, far)
	f(&s)
	return s
}

func newChain(t *testing.T, s api.Setup) *chain.Chain {
	t.Helper()
	c, e := chain.New(s)
	if e != api.OK {
		t.Fatalf("New: %d", e)
	}
	return c
}

// two returns two chains; the first has sent a packet, and both have committed a block.
func two(t *testing.T, limits api.Limits) (*chain.Chain, *chain.Chain, api.Packet) {
	t.Helper()
	a := newChain(t, setup("a", near, far))
	s := setup("b", far, near)
	s.Limits = limits
	b := newChain(t, s)
	p, _ := a.Send(near, "hi", 0, 0)
	a.Commit()
	b.Commit()
	return a, b, p
}

func update(c *chain.Chain) api.Msg {
	h, _ := c.Header(c.Last())
	return api.Msg{Kind: api.MsgUpdate, Header: h}
}

func recv(c *chain.Chain, p api.Packet) api.Msg {
	q, _ := c.Prove(c.Last(), path.Of(path.Commitments, p.Src, p.Seq))
	return api.Msg{Kind: api.MsgRecv, Packet: p, Height: c.Last(), Proof: q}
}

func tx(t *testing.T, l ...api.Msg) string {
	t.Helper()
	s, e := msg.Tx(l)
	if e != api.OK {
		t.Fatalf("Tx: %d", e)
	}
	return s
}

func TestCheckAndNew(t *testing.T) { // P19.1
	for _, c := range []struct {
		s    api.Setup
		want api.Errno
	}{
		{setup("a", near, far), api.OK}, {api.Setup{Name: "a", Limits: api.Limits{Gas: 1, Bytes: 1, Count: 1}}, api.OK},
		{changed(func(s *api.Setup) { s.Limits = api.Limits{Gas: api.MaxLimit, Bytes: api.MaxLimit, Count: api.MaxLimit} }), api.OK},
		{api.Setup{}, api.ErrName}, {changed(func(s *api.Setup) { s.Name = "A" }), api.ErrName},
		{changed(func(s *api.Setup) { s.Limits.Gas = 0 }), api.ErrRange}, {changed(func(s *api.Setup) { s.Limits.Gas = api.MaxLimit + 1 }), api.ErrRange},
		{changed(func(s *api.Setup) { s.Limits.Bytes = -1 }), api.ErrRange}, {changed(func(s *api.Setup) { s.Limits.Bytes = math.MaxInt }), api.ErrRange},
		{changed(func(s *api.Setup) { s.Limits.Count = 0; s.Ends = make([]api.Gen, 9) }), api.ErrRange},
		{changed(func(s *api.Setup) { s.Ends = make([]api.Gen, 9) }), api.ErrCount},
		{changed(func(s *api.Setup) { s.Ends[0].First = 0 }), api.ErrRange}, {changed(func(s *api.Setup) { s.Ends = append(s.Ends, s.Ends...) }), api.ErrTwice},
	} {
		if e := chain.Check(c.s); e != c.want {
			t.Errorf("Check(%v): %d, not %d", c.s, e, c.want)
		}
		if x, e := chain.New(c.s); e != c.want || (x == nil) != (e != api.OK) {
			t.Errorf("New(%v): %d, not %d", c.s, e, c.want)
		}
	}
	s := setup("a", near, far)
	c := newChain(t, s)
	if c.Name() != "a" || c.Limits() != s.Limits || c.Height() != 1 || c.Time() != 0 || c.Last() != 0 {
		t.Error("a new chain")
	}
	if len(c.Headers())+len(c.Records())+len(c.Pending())+len(c.States()) != 0 || c.Known(0) || c.Known(1) {
		t.Error("a new chain has a past")
	}
	want := store.New()
	ends.Init(want, s.Ends)
	if !slices.Equal(c.Pairs(), want.Pairs()) {
		t.Error("the contents of a new chain")
	}
	s.Ends[0].Own.Port = "other"
	if !slices.Equal(c.Pairs(), want.Pairs()) {
		t.Error("the chain keeps its argument")
	}
}

func TestSend(t *testing.T) { // P19.2
	c := newChain(t, setup("a", near, far))
	p, e := c.Send(near, "hi", 3, 4)
	if want := (api.Packet{Src: near, Dst: far, Seq: 1, Data: "hi", TimeHeight: 3, TimeAt: 4}); p != want || e != api.OK {
		t.Errorf("Send: %v, %d", p, e)
	}
	if v, ok := c.Now(path.Of(path.Commitments, near, 1)); v != sha.Text(packet.Commit(p)) || !ok {
		t.Errorf("Now: %x, %t", v, ok)
	}
	if !slices.Equal(c.Pending(), []api.Event{{Kind: api.EvSend, Packet: p}}) {
		t.Errorf("Pending: %v", c.Pending())
	}
	if p, e := c.Send(far, "hi", 0, 0); p != (api.Packet{}) || e != api.ErrChannel || len(c.Pending()) != 1 {
		t.Errorf("Send from no end: %v, %d", p, e)
	}
	c.Pending()[0].Kind = 9
	_ = append(c.Pending(), api.Event{})
	if c.Pending()[0].Kind != api.EvSend {
		t.Error("Pending is part of the chain")
	}
}

func TestTick(t *testing.T) { // P19.2
	c := newChain(t, setup("a", near, far))
	for _, x := range []struct {
		n    int
		want api.Errno
		time int
	}{
		{5, api.OK, 5}, {0, api.OK, 5}, {-1, api.ErrRange, 5}, {math.MinInt, api.ErrRange, 5}, {api.MaxTime - 4, api.ErrOver, 5},
		{math.MaxInt, api.ErrOver, 5}, {api.MaxTime - 5, api.OK, api.MaxTime}, {1, api.ErrOver, api.MaxTime}, {0, api.OK, api.MaxTime},
	} {
		if e := c.Tick(x.n); e != x.want || c.Time() != x.time {
			t.Errorf("Tick(%d): %d, then Time %d", x.n, e, c.Time())
		}
	}
}

func TestCommit(t *testing.T) { // P19.2, P19.4
	c := newChain(t, setup("a", near, far))
	c.Tick(3)
	p, _ := c.Send(near, "hi", 0, 0)
	first := c.Pairs()
	if e := c.Commit(); e != api.OK || c.Height() != 2 || c.Time() != 3 || c.Last() != 1 || len(c.Pending()) != 0 {
		t.Errorf("Commit: %d, then Height %d, Time %d", e, c.Height(), c.Time())
	}
	c.Tick(4)
	c.Send(near, "ho", 0, 0)
	c.Commit()
	c.Commit()
	want := []api.Header{{Height: 1, Time: 3, Root: proof.Root(first)}, {Height: 2, Time: 7, Root: proof.Root(c.Pairs())}, {Height: 3, Time: 7, Root: proof.Root(c.Pairs())}}
	if !slices.Equal(c.Headers(), want) || c.Height() != 4 {
		t.Errorf("Headers: %v", c.Headers())
	}
	if h, ok := c.Header(2); h != want[1] || !ok {
		t.Errorf("Header(2): %v, %t", h, ok)
	}
	if h, ok := c.Header(4); h != (api.Header{}) || ok {
		t.Errorf("Header(4): %v, %t", h, ok)
	}
	body, _ := block.Encode(api.Block{Chain: "a", Height: 1, Time: 3, Events: []api.Event{{Kind: api.EvSend, Packet: p}}})
	record, _ := frame.Put(body)
	if l := c.Records(); len(l) != 3 || l[0] != record {
		t.Errorf("Records: %x", l)
	}
	c.Records()[0] = "x"
	if c.Records()[0] != record {
		t.Error("Records is part of the chain")
	}
	key := path.Of(path.Commitments, near, 2)
	if _, ok := c.Get(1, key); ok {
		t.Error("Get sees a later packet")
	}
	if v, ok := c.Get(2, key); v == "" || !ok {
		t.Error("Get does not see a packet")
	}
	if q, e := c.Prove(1, key); e != api.OK || !proof.Lacks(want[0].Root, q, key) {
		t.Errorf("Prove at 1: %d", e)
	}
	if q, e := c.Prove(4, key); e != api.ErrNone || q.Count != 0 {
		t.Errorf("Prove at 4: %d", e)
	}
}

func TestDeliver(t *testing.T) { // P19.3, P19.4
	a, b, p := two(t, api.Limits{Gas: 100000, Bytes: 10000, Count: 5})
	twin := newChain(t, setup("b", far, near))
	l := []api.Msg{update(a), recv(a, p), recv(a, p), update(a)}
	done := b.Deliver(tx(t, l...), a.Headers())
	codes := []api.Errno{api.OK, api.OK, api.ErrReceived, api.OK}
	for i, r := range done.Results {
		if r != (api.Result{Code: codes[i], Gas: gas.Price(l[i])}) {
			t.Errorf("result %d: %v", i, r)
		}
	}
	if done.Code != api.OK || len(done.Results) != 4 || done.Gas != gas.Total(l) {
		t.Errorf("Done: %v", done)
	}
	kinds := []int{}
	for _, x := range b.Pending() {
		kinds = append(kinds, x.Kind)
	}
	if !slices.Equal(kinds, []int{api.EvUpdate, api.EvRecv, api.EvWrite}) {
		t.Errorf("the events: %v", kinds)
	}
	if !b.Known(1) || b.Known(2) || !slices.Equal(b.States(), a.Headers()) {
		t.Errorf("States: %v", b.States())
	}
	if done := twin.Deliver(tx(t, update(a)), nil); done.Results[0].Code != api.ErrHeader || twin.Known(1) {
		t.Errorf("an Update that was not told: %v", done)
	}
	if done := twin.Deliver(tx(t), nil); done.Code != api.OK || done.Gas != 0 || len(done.Results) != 0 {
		t.Errorf("no messages: %v", done)
	}
}

func TestDeliverIsRefused(t *testing.T) { // P19.3
	a, b, p := two(t, api.Limits{Gas: 100000, Bytes: 1000, Count: 2})
	good := tx(t, update(a), recv(a, p))
	pairs := b.Pairs()
	for s, want := range map[string]api.Errno{
		tx(t, update(a), update(a), update(a)): api.ErrCount, good + "x": api.ErrForm, good[:50]: api.ErrShort, "": api.ErrShort, "\x41": api.ErrCount, "\x03": api.ErrShort,
		good + string(make([]byte, 1000)): api.ErrBytes, string(make([]byte, 1001)): api.ErrBytes, string(make([]byte, 1000)): api.ErrForm, "\x01\x01\x09": api.ErrRange,
	} {
		done := b.Deliver(s, a.Headers())
		if done.Code != want || done.Gas != 0 || len(done.Results) != 0 || len(b.Pending()) != 0 || b.Known(1) || !slices.Equal(b.Pairs(), pairs) {
			t.Errorf("Deliver of %d bytes: %v, not %d", len(s), done, want)
		}
	}
	if done := b.Deliver(good, a.Headers()); done.Code != api.OK || len(done.Results) != 2 {
		t.Errorf("at the limits: %v", done)
	}
}

func TestGas(t *testing.T) { // P19.3
	a, _, p := two(t, api.Limits{Gas: 1, Bytes: 1, Count: 1})
	l := []api.Msg{update(a), recv(a, p), update(a), recv(a, p)}
	small, great := gas.Price(l[0]), gas.Price(l[1])
	for _, c := range []struct {
		limit int
		want  []bool // which messages are executed
	}{
		{2*small + 2*great, []bool{true, true, true, true}}, {2*small + 2*great - 1, []bool{true, true, true, false}},
		{small + great - 1, []bool{true, false, true, false}}, {2 * small, []bool{true, false, true, false}}, {small - 1, []bool{false, false, false, false}},
	} {
		_, b, _ := two(t, api.Limits{Gas: c.limit, Bytes: 10000, Count: 5})
		done := b.Deliver(tx(t, l...), a.Headers())
		used := 0
		for i, x := range c.want {
			r := done.Results[i]
			if x != (r.Code != api.ErrGas) || r.Code == api.ErrGas && r.Gas != 0 || x && r.Gas != gas.Price(l[i]) {
				t.Errorf("limit %d, message %d: %v", c.limit, i, r)
			}
			used += r.Gas
		}
		if done.Gas != used || done.Code != api.OK || len(b.Pending()) == 0 && c.want[0] {
			t.Errorf("limit %d: %v", c.limit, done)
		}
	}
}

func TestDeliverDoesWhatHandleDoes(t *testing.T) { // P19.3
	a, b, p := two(t, api.Limits{Gas: 100000, Bytes: 10000, Count: 5})
	b.Deliver(tx(t, update(a)), a.Headers())
	m := recv(a, p)
	m.Packet.TimeHeight = 2
	if done := b.Deliver(tx(t, m, recv(a, p)), nil); done.Results[0].Code != api.ErrTimeout || done.Results[1].Code != api.OK {
		t.Errorf("a rejected message: %v", done)
	}
	s := store.New()
	ends.Init(s, setup("b", far, near).Ends)
	g := handle.Ground{Store: s, Height: 2}
	if _, _, e := handle.Send(g, far, "", 0, 0); e != api.OK {
		t.Errorf("Send: %d", e)
	}
	if _, e := b.Send(far, "", 0, 0); e != api.OK {
		t.Errorf("Send: %d", e)
	}
	key := path.Of(path.Commitments, far, 1)
	v, _ := s.Get(key)
	if w, ok := b.Now(key); w != v || !ok {
		t.Error("the commitment differs")
	}
}
