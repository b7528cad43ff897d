package index_test

import (
	"math"
	"math/rand"
	"slices"
	"testing"

	"lighterman/api"
	"lighterman/block"
	"lighterman/frame"
	"lighterman/index"
	"lighterman/life"
	"lighterman/span"
)

var (
	east = api.End{Port: "e", Chan: 1}
	west = api.End{Port: "w", Chan: 2}
)

func send(seq int) api.Event {
	return api.Event{Kind: api.EvSend, Packet: api.Packet{Src: east, Dst: west, Seq: seq}}
}

func ack(seq int) api.Event {
	return api.Event{Kind: api.EvAck, Packet: send(seq).Packet}
}

func sample(height int, events ...api.Event) api.Block {
	return api.Block{Chain: "a", Height: height, Time: 5, Events: events}
}

func record(t *testing.T, b api.Block) string {
	t.Helper()
	body, e := block.Encode(b)
	if e != api.OK {
		t.Fatalf("Encode: %d", e)
	}
	s, _ := frame.Put(body)
	return s
}

func put(body string) string {
	s, _ := frame.Put(body)
	return s
}

func newIndex(t *testing.T, top int) *index.Index {
	t.Helper()
	x, e := index.New("a", top)
	if e != api.OK {
		t.Fatalf("New: %d", e)
	}
	return x
}

func TestNew(t *testing.T) { // P24.1
	for _, c := range []struct {
		chain string
		top   int
		want  api.Errno
	}{
		{"a", 0, api.OK}, {"a", api.MaxHeight, api.OK}, {"", 1, api.ErrName}, {"A", -1, api.ErrName}, {"a", -1, api.ErrRange}, {"a", api.MaxHeight + 1, api.ErrRange}, {"a", math.MinInt, api.ErrRange},
	} {
		if x, e := index.New(c.chain, c.top); e != c.want || (x == nil) != (e != api.OK) {
			t.Errorf("New(%q, %d): %d", c.chain, c.top, e)
		}
	}
	x := newIndex(t, 3)
	if len(x.Heights()) != 0 || !slices.Equal(x.Missing(), []span.Range{{From: 1, To: 3}}) {
		t.Error("a new index")
	}
}

func TestAdd(t *testing.T) { // P24.1
	x := newIndex(t, 3)
	two := record(t, sample(2, send(1)))
	broken := []byte(two)
	broken[len(broken)-1] ^= 1
	other := sample(2, send(1))
	other.Chain = "b"
	high := sample(4)
	high.Chain = "b"
	later := sample(2, send(1))
	later.Time = 6
	all := []string{
		two, two, record(t, sample(2)), record(t, sample(2, send(1), send(2))), record(t, later), string(broken), two[:9], "", two + "x", put(""), put("x"), put("\x01A\x01\x02\x00"),
		record(t, other), record(t, high), record(t, sample(4)), record(t, sample(3)), two,
	}
	want := []api.Errno{
		api.OK, api.OK, api.ErrTwice, api.ErrTwice, api.ErrTwice, api.ErrSum, api.ErrShort, api.ErrShort, api.ErrForm, api.ErrShort, api.ErrLong, api.ErrRange,
		api.ErrName, api.ErrName, api.ErrRange, api.OK, api.OK,
	}
	for i, s := range all {
		if e := x.Add(s); e != want[i] {
			t.Errorf("record %d: %d, not %d", i, e, want[i])
		}
	}
	if b, ok := x.Block(2); !block.Same(b, sample(2, send(1))) || !ok {
		t.Errorf("Block(2): %v, %t", b, ok)
	}
	if !slices.Equal(x.Heights(), []int{2, 3}) {
		t.Errorf("Heights: %v", x.Heights())
	}
	y := newIndex(t, 3)
	if got := y.Feed(all); !slices.Equal(got, want) || !slices.Equal(y.Heights(), x.Heights()) {
		t.Errorf("Feed: %v", got)
	}
	if len(y.Feed(nil)) != 0 {
		t.Error("Feed of no records")
	}
}

func TestMissingAndBlock(t *testing.T) { // P24.2
	x := newIndex(t, 3)
	x.Add(record(t, sample(2, send(1))))
	if got := x.Missing(); !slices.Equal(got, []span.Range{{From: 1, To: 1}, {From: 3, To: 3}}) {
		t.Errorf("Missing: %v", got)
	}
	for _, h := range []int{0, 1, 3, -1, math.MaxInt} {
		if b, ok := x.Block(h); !block.Same(b, api.Block{}) || ok {
			t.Errorf("Block(%d): %v, %t", h, b, ok)
		}
	}
	b, _ := x.Block(2)
	b.Events[0].Kind = 9
	_ = append(b.Events, api.Event{})
	if b, _ := x.Block(2); b.Events[0] != send(1) {
		t.Error("a block that was returned is part of the index")
	}
	x.Add(record(t, sample(1)))
	x.Add(record(t, sample(3)))
	if len(x.Missing()) != 0 || !slices.Equal(x.Heights(), []int{1, 2, 3}) {
		t.Errorf("Missing: %v", x.Missing())
	}
	if got := newIndex(t, 0).Missing(); len(got) != 0 {
		t.Errorf("Missing up to 0: %v", got)
	}
}

func TestTable(t *testing.T) { // P24.2
	x := newIndex(t, 9)
	changed := send(1)
	changed.Packet.Data = "x"
	x.Add(record(t, sample(5, send(3), changed)))
	x.Add(record(t, sample(2, send(1), ack(1), send(1), ack(2))))
	x.Add(record(t, sample(3, send(2), api.Event{Kind: api.EvUpdate, Height: 1})))
	table, rejected := x.Table()
	key := func(seq int) life.Key { return life.Key{End: east, Out: true, Seq: seq} }
	if rejected != 2 || len(table.Keys()) != 3 {
		t.Errorf("Table: %v, %d rejected", table.Keys(), rejected)
	}
	if e, _ := table.Get(key(1)); e != (life.Entry{Packet: send(1).Packet, Sent: true, Acked: true}) {
		t.Errorf("entry 1: %v", e)
	}
	if e, _ := table.Get(key(2)); !e.Sent || !e.Acked {
		t.Errorf("entry 2: %v", e)
	}
	table.Fold(send(9))
	if again, _ := x.Table(); len(again.Keys()) != 3 {
		t.Error("a table that was returned is part of the index")
	}
	if table, rejected := newIndex(t, 9).Table(); len(table.Keys()) != 0 || rejected != 0 {
		t.Error("the table of no blocks")
	}
}

func TestGaps(t *testing.T) { // P24.2
	x := newIndex(t, 9)
	x.Add(record(t, sample(2, send(2), send(3), ack(5), api.Event{Kind: api.EvRecv, Packet: api.Packet{Src: west, Dst: east, Seq: 4}})))
	x.Add(record(t, sample(5, send(7))))
	for _, c := range []struct {
		from, to int
		want     []span.Range
	}{
		{1, 8, []span.Range{{From: 1, To: 1}, {From: 4, To: 6}, {From: 8, To: 8}}}, {2, 3, nil}, {3, 4, []span.Range{{From: 4, To: 4}}}, {5, 1, nil}, {-9, 0, []span.Range{{From: 0, To: 0}}},
	} {
		if got := x.Gaps(east, c.from, c.to); !slices.Equal(got, c.want) {
			t.Errorf("Gaps from %d to %d: %v", c.from, c.to, got)
		}
	}
	if got := x.Gaps(west, 1, 8); !slices.Equal(got, []span.Range{{From: 1, To: 8}}) {
		t.Errorf("Gaps of another end: %v", got)
	}
}

func TestOrderDoesNotMatter(t *testing.T) { // P24.3
	r := rand.New(rand.NewSource(24))
	var all []string
	for h := 1; h <= 12; h++ {
		all = append(all, record(t, sample(h, send(h), ack(13-h), send(20-h))))
	}
	x := newIndex(t, 12)
	x.Feed(all)
	want, rejected := x.Table()
	for range 50 {
		l := append(slices.Clone(all), all[r.Intn(12)], all[r.Intn(12)])
		r.Shuffle(len(l), func(i, k int) { l[i], l[k] = l[k], l[i] })
		y := newIndex(t, 12)
		y.Feed(l)
		got, n := y.Table()
		if n != rejected || !slices.Equal(got.Keys(), want.Keys()) || !slices.Equal(y.Heights(), x.Heights()) || len(y.Missing()) != 0 {
			t.Fatalf("another order: %d rejected, %v", n, got.Keys())
		}
		for _, k := range got.Keys() {
			a, _ := want.Get(k)
			if b, _ := got.Get(k); a != b {
				t.Fatalf("entry %v: %v, not %v", k, b, a)
			}
		}
	}
}
