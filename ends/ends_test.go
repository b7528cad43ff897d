package ends_test

import (
	"math"
	"slices"
	"strings"
	"testing"

	"lighterman/api"
	"lighterman/ends"
	"lighterman/leb"
	"lighterman/path"
	"lighterman/store"
)

var (
	own   = api.End{Port: "own", Chan: 5}
	other = api.End{Port: "t", Chan: 3}
	bad   = api.End{Port: "T", Chan: 3}
)

func good() map[string]ends.State {
	return map[string]ends.State{
		"\x00\x00\x01t\x03\x00":                     {Other: other},
		"\x00\x01\x01t\x03\x00":                     {Other: other, Ordered: true},
		"\x01\x00\x01t\x03\x00":                     {Other: other, Closed: true},
		"\x01\x01\x01t\x03\x07":                     {Other: other, Ordered: true, Closed: true, Stop: 7},
		"\x01\x01\x01t\x03\x01":                     {Other: other, Ordered: true, Closed: true, Stop: 1},
		"\x01\x01\x01t\x03\x81\x80\x80\x80\x80\x20": {Other: other, Ordered: true, Closed: true, Stop: api.MaxSeq + 1},
	}
}

func spoilt() []ends.State {
	return []ends.State{
		{}, {Other: bad}, {Other: api.End{Port: "t", Chan: 1000}}, {Other: other, Stop: 1}, {Other: other, Stop: -1}, {Other: other, Ordered: true, Stop: 1},
		{Other: other, Closed: true, Stop: 1}, {Other: other, Ordered: true, Closed: true}, {Other: other, Ordered: true, Closed: true, Stop: -1},
		{Other: other, Ordered: true, Closed: true, Stop: api.MaxSeq + 2}, {Other: other, Ordered: true, Closed: true, Stop: math.MaxInt},
	}
}

func TestMayAndEncode(t *testing.T) { // P15.1
	for want, s := range good() {
		if v, e := ends.Encode(s); !ends.May(s) || v != want || e != api.OK {
			t.Errorf("Encode(%v): %x, %d", s, v, e)
		}
		if got, e := ends.Decode(want); got != s || e != api.OK {
			t.Errorf("Decode(%x): %v, %d", want, got, e)
		}
		for n := range len(want) {
			if got, e := ends.Decode(want[:n]); got != (ends.State{}) || e != api.ErrShort {
				t.Errorf("Decode(%x): %v, %d", want[:n], got, e)
			}
		}
	}
	for _, s := range spoilt() {
		if v, e := ends.Encode(s); ends.May(s) || v != "" || e != api.ErrRange {
			t.Errorf("Encode(%v): %x, %d", s, v, e)
		}
	}
}

func TestDecodeFails(t *testing.T) { // P15.1
	for v, want := range map[string]api.Errno{
		"\x02\x00\x01t\x03\x00": api.ErrRange, "\x00\x02\x01t\x03\x00": api.ErrRange, "\x80\x00\x00\x01t\x03\x00": api.ErrForm, "\x00\x00\x0dttttttttttttt\x03\x00": api.ErrLong,
		"\x00\x00\x01t\xe8\x07\x00": api.ErrRange, "\x01\x01\x01t\x03\x82\x80\x80\x80\x80\x20": api.ErrRange, "\x00\x00\x01t\x03\x00x": api.ErrForm, "\x01\x01\x01t\x03\x82\x80\x80\x80\x80\x20x": api.ErrRange,
		"\x00\x00\x01T\x03\x00": api.ErrRange, "\x00\x00\x01T\x03\x00x": api.ErrForm, "\x00\x00\x01t\x03\x01": api.ErrRange, "\x01\x01\x01t\x03\x00": api.ErrRange,
	} {
		if got, e := ends.Decode(v); got != (ends.State{}) || e != want {
			t.Errorf("Decode(%x): %v, %d, not %d", v, got, e, want)
		}
	}
}

func TestPutAndGet(t *testing.T) { // P15.2
	for want, x := range good() {
		s := store.New()
		if e := ends.Put(s, own, x); e != api.OK {
			t.Errorf("Put(%v): %d", x, e)
		}
		if v, _ := s.Get("channelEnds/ports/own/channels/channel-5"); v != want || s.Len() != 1 {
			t.Errorf("Put has stored %x", v)
		}
		if got, ok := ends.Get(s, own); got != x || !ok {
			t.Errorf("Get: %v, %t", got, ok)
		}
		if e := ends.Put(s, bad, x); e != api.ErrRange || s.Len() != 1 {
			t.Errorf("Put to an end that is not valid: %d", e)
		}
		for _, y := range spoilt() {
			if e := ends.Put(s, own, y); e != api.ErrRange {
				t.Errorf("Put(%v): %d", y, e)
			}
		}
		if got, ok := ends.Get(s, own); got != x || !ok {
			t.Errorf("Get after a refused Put: %v, %t", got, ok)
		}
		for _, e := range []api.End{other, bad, {}} {
			if got, ok := ends.Get(s, e); got != (ends.State{}) || ok {
				t.Errorf("Get(%v): %v, %t", e, got, ok)
			}
		}
		s.Set(path.Of(path.ChannelEnds, own, 0), want+"x")
		if got, ok := ends.Get(s, own); got != (ends.State{}) || ok {
			t.Errorf("Get of other bytes: %v, %t", got, ok)
		}
	}
}

func TestNext(t *testing.T) { // P15.2
	s := store.New()
	for kind, key := range map[int]string{path.NextSend: "nextSequenceSend", path.NextRecv: "nextSequenceRecv", path.NextAck: "nextSequenceAck"} {
		if n := ends.Next(s, kind, own); n != 0 {
			t.Errorf("Next of an absent key: %d", n)
		}
		for _, n := range []int{1, 300, api.MaxSeq + 1} {
			if e := ends.SetNext(s, kind, own, n); e != api.OK || ends.Next(s, kind, own) != n {
				t.Errorf("SetNext(%d): %d, then %d", n, e, ends.Next(s, kind, own))
			}
		}
		for _, n := range []int{0, -1, api.MaxSeq + 2, math.MinInt, math.MaxInt} {
			if e := ends.SetNext(s, kind, own, n); e != api.ErrRange || ends.Next(s, kind, own) != api.MaxSeq+1 {
				t.Errorf("SetNext(%d): %d", n, e)
			}
		}
		if v, _ := s.Get(key + "/ports/own/channels/channel-5"); v != leb.Put(api.MaxSeq+1) {
			t.Errorf("SetNext has stored %x", v)
		}
		for v, want := range map[string]int{leb.Put(api.MaxNum): api.MaxNum, "\x05": 5, "\x05\x05": 0, "\x80": 0, "\x85\x00": 0, strings.Repeat("\x80", 9): 0, "\x00": 0} {
			s.Set(path.Of(kind, own, 0), v)
			if n := ends.Next(s, kind, own); n != want {
				t.Errorf("Next of %x: %d", v, n)
			}
		}
		if e := ends.SetNext(s, kind, bad, 1); e != api.ErrRange || ends.Next(s, kind, bad) != 0 {
			t.Errorf("SetNext of an end that is not valid: %d", e)
		}
	}
	for _, kind := range []int{0, path.Commitments, path.Receipts, path.Acks, path.ChannelEnds, -1, 99} {
		s.Set(path.Of(path.ChannelEnds, own, 0), "\x05")
		if e := ends.SetNext(s, kind, own, 1); e != api.ErrRange || ends.Next(s, kind, own) != 0 {
			t.Errorf("kind %d: %d, %d", kind, e, ends.Next(s, kind, own))
		}
	}
}

func gens(n int) []api.Gen {
	var g []api.Gen
	for i := range n {
		g = append(g, api.Gen{Own: api.End{Port: "p", Chan: 9 - i}, Other: other, Ordered: i%2 == 1, First: i + 1})
	}
	return g
}

func TestCheckAndInit(t *testing.T) { // P15.3
	change := func(f func(g []api.Gen)) []api.Gen {
		g := gens(4)
		f(g)
		return g
	}
	for _, c := range []struct {
		g    []api.Gen
		want api.Errno
	}{
		{nil, api.OK}, {gens(api.MaxEnds), api.OK}, {gens(api.MaxEnds + 1), api.ErrCount}, {make([]api.Gen, api.MaxEnds+1), api.ErrCount},
		{change(func(g []api.Gen) { g[1].Own = bad }), api.ErrRange}, {change(func(g []api.Gen) { g[1].Other = bad }), api.ErrRange},
		{change(func(g []api.Gen) { g[3].First = 0 }), api.ErrRange}, {change(func(g []api.Gen) { g[3].First = api.MaxSeq + 2 }), api.ErrRange}, {change(func(g []api.Gen) { g[3].First = api.MaxSeq + 1 }), api.OK},
		{change(func(g []api.Gen) { g[3].Own = g[0].Own }), api.ErrTwice},
		{change(func(g []api.Gen) { g[3].Own, g[2].First = g[0].Own, 0 }), api.ErrRange},
		{change(func(g []api.Gen) { g[1].Own, g[2].First = g[0].Own, 0 }), api.ErrTwice},
		{change(func(g []api.Gen) { g[1].Own, g[1].First = g[0].Own, 0 }), api.ErrRange},
	} {
		s := store.New()
		if e := ends.Check(c.g); e != c.want {
			t.Errorf("Check(%v): %d", c.g, e)
		}
		if e := ends.Init(s, c.g); e != c.want || e != api.OK && s.Len() != 0 {
			t.Errorf("Init(%v): %d, %d keys", c.g, e, s.Len())
		}
	}
	s := store.New()
	ends.Init(s, gens(3))
	for i, x := range gens(3) {
		if got, ok := ends.Get(s, x.Own); got != (ends.State{Other: other, Ordered: x.Ordered}) || !ok {
			t.Errorf("state %d: %v, %t", i, got, ok)
		}
		for kind := path.NextSend; kind <= path.NextAck; kind++ {
			if n := ends.Next(s, kind, x.Own); n != x.First {
				t.Errorf("kind %d of end %d: %d", kind, i, n)
			}
		}
	}
	if s.Len() != 12 {
		t.Errorf("Init has stored %d keys", s.Len())
	}
}

func TestAll(t *testing.T) { // P15.3
	s := store.New()
	if len(ends.All(s)) != 0 {
		t.Error("an empty store has ends")
	}
	want := []api.End{{Port: "a", Chan: 2}, {Port: "a", Chan: 10}, {Port: "a", Chan: 100}, {Port: "a-b", Chan: 1}, {Port: "aa", Chan: 0}, {Port: "b", Chan: 0}}
	for _, e := range slices.Backward(want) {
		ends.Put(s, e, ends.State{Other: other})
	}
	ends.SetNext(s, path.NextAck, own, 1)
	s.Set(path.Of(path.ChannelEnds, own, 0), "x")
	s.Set("channelEnds/ports/a/channels/channel-02", "\x00\x00\x01t\x03\x00")
	s.Set("channelEnds/", "\x00\x00\x01t\x03\x00")
	s.Set("channelEnds", "\x00\x00\x01t\x03\x00")
	if got := ends.All(s); !slices.Equal(got, want) {
		t.Errorf("All: %v", got)
	}
}
