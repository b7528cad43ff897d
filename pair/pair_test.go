package pair_test

import (
	"math"
	"reflect"
	"slices"
	"strings"
	"testing"

	"lighterman/api"
	"lighterman/conf"
	"lighterman/ends"
	"lighterman/pair"
	"lighterman/scene"
)

func setups(t *testing.T) (api.Setup, api.Setup) {
	t.Helper()
	a, e := conf.Setup(scene.Conf(), 0, 1)
	b, e2 := conf.Setup(scene.Conf(), 1, 1)
	if e != api.OK || e2 != api.OK {
		t.Fatalf("Setup: %d, %d", e, e2)
	}
	return a, b
}

func newPair(t *testing.T) *pair.Pair {
	t.Helper()
	p, e := pair.New(setups(t))
	if e != api.OK {
		t.Fatalf("New: %d", e)
	}
	return p
}

func TestMatch(t *testing.T) { // P30.1
	for i, c := range []struct {
		f    func(a, b *api.Setup)
		want api.Errno
	}{
		{func(a, b *api.Setup) {}, api.OK}, {func(a, b *api.Setup) { slices.Reverse(b.Ends); b.Limits = api.Limits{Gas: 1, Bytes: 1, Count: 1} }, api.OK},
		{func(a, b *api.Setup) { a.Ends, b.Ends = nil, nil }, api.OK},
		{func(a, b *api.Setup) { a.Limits.Gas = 0; b.Name = "" }, api.ErrRange}, {func(a, b *api.Setup) { a.Name = ""; b.Limits.Gas = 0 }, api.ErrName},
		{func(a, b *api.Setup) { b.Limits.Gas = 0; b.Name = a.Name }, api.ErrRange}, {func(a, b *api.Setup) { b.Ends[1].Own = b.Ends[0].Own }, api.ErrTwice},
		{func(a, b *api.Setup) { b.Name = a.Name; b.Ends = nil }, api.ErrName},
		{func(a, b *api.Setup) { b.Ends = b.Ends[1:] }, api.ErrChannel}, {func(a, b *api.Setup) { a.Ends = a.Ends[1:] }, api.ErrChannel},
		{func(a, b *api.Setup) { b.Ends[0].Own.Chan++ }, api.ErrChannel}, {func(a, b *api.Setup) { b.Ends[1].Other.Chan++ }, api.ErrChannel},
		{func(a, b *api.Setup) { b.Ends[0].Ordered = true }, api.ErrChannel}, {func(a, b *api.Setup) { b.Ends[1].First++ }, api.ErrChannel},
		{func(a, b *api.Setup) { a.Ends[0].Other = a.Ends[1].Other }, api.ErrChannel},
	} {
		a, b := setups(t)
		c.f(&a, &b)
		if e := pair.Match(a, b); e != c.want {
			t.Errorf("case %d: %d, not %d", i, e, c.want)
		}
		if p, e := pair.New(a, b); e != c.want || (p == nil) != (e != api.OK) {
			t.Errorf("case %d: New: %d", i, e)
		}
	}
}

func TestNoSide(t *testing.T) { // P30.1
	p := newPair(t)
	p.Commit(0)
	claim := pair.Claim{Msg: api.Msg{Kind: api.MsgUpdate, Header: api.Header{Height: 1}}, Told: true}
	for _, side := range []int{-1, 2, math.MinInt, math.MaxInt} {
		if x, e := p.Send(side, scene.Open(0), "", 0, 0); x != (api.Packet{}) || e != api.ErrRange {
			t.Errorf("Send: %v, %d", x, e)
		}
		if p.Tick(side, 1) != api.ErrRange || p.Commit(side) != api.ErrRange || p.Do(side, claim) != api.ErrRange {
			t.Errorf("side %d", side)
		}
		if l := p.Look(side); !reflect.DeepEqual(l, pair.Look{}) {
			t.Errorf("Look: %v", l)
		}
	}
}

func TestNew(t *testing.T) { // P30.1, P30.5
	p := newPair(t)
	for side := range 2 {
		want := pair.Look{Height: 1, Ends: []pair.End{
			{End: scene.Open(side), State: ends.State{Other: scene.Open(1 - side)}, NextSend: 1, NextRecv: 1, NextAck: 1},
			{End: scene.Ordered(side), State: ends.State{Other: scene.Ordered(1 - side), Ordered: true}, NextSend: 1, NextRecv: 1, NextAck: 1},
		}}
		if l := p.Look(side); !reflect.DeepEqual(l, want) {
			t.Errorf("Look: %v", l)
		}
	}
}

func TestSendTickCommit(t *testing.T) { // P30.2
	p := newPair(t)
	want := api.Packet{Src: scene.Open(1), Dst: scene.Open(0), Seq: 1, Data: "x", TimeHeight: 3, TimeAt: 4}
	if x, e := p.Send(1, scene.Open(1), "x", 3, 4); x != want || e != api.OK {
		t.Errorf("Send: %v, %d", x, e)
	}
	for i, c := range []struct {
		e      api.End
		data   string
		height int
		want   api.Errno
	}{
		{scene.Open(1), "", 0, api.ErrChannel}, {scene.Open(0), strings.Repeat("x", 201), 0, api.ErrRange}, {scene.Open(0), "", -1, api.ErrRange}, {api.End{}, "", -1, api.ErrChannel},
	} {
		if x, e := p.Send(0, c.e, c.data, c.height, 0); x != (api.Packet{}) || e != c.want {
			t.Errorf("case %d: %v, %d", i, x, e)
		}
	}
	if p.Tick(0, api.MaxTime) != api.OK || p.Tick(0, 1) != api.ErrOver || p.Tick(0, 0) != api.OK || p.Look(0).Time != api.MaxTime {
		t.Error("Tick up to MaxTime")
	}
	if p.Tick(1, 5) != api.OK || p.Tick(1, -1) != api.ErrRange || p.Tick(1, api.MaxTime-4) != api.ErrOver || p.Tick(1, math.MaxInt) != api.ErrOver {
		t.Error("Tick")
	}
	p.Commit(1)
	p.Commit(1)
	if l := p.Look(1); l.Height != 3 || l.Last != 2 || l.Time != 5 || l.Ends[0].NextSend != 2 || !slices.Equal(l.Ends[0].Kept, []api.Packet{want}) {
		t.Errorf("Look: %v", l)
	}
	if l := p.Look(0); l.Height != 1 || l.Last != 0 || l.Time != api.MaxTime {
		t.Errorf("Look at the other side: %v", l)
	}
	a, b := setups(t)
	for i := range a.Ends {
		a.Ends[i].First, b.Ends[i].First = api.MaxSeq, api.MaxSeq
	}
	last, _ := pair.New(a, b)
	if x, e := last.Send(0, scene.Open(0), "", 0, 0); x.Seq != api.MaxSeq || e != api.OK {
		t.Errorf("the last packet: %v, %d", x, e)
	}
	if x, e := last.Send(0, scene.Open(0), "", -1, 0); x != (api.Packet{}) || e != api.ErrOver {
		t.Errorf("after the last packet: %v, %d", x, e)
	}
}

// tell makes a side know the last header of the other side.
func tell(t *testing.T, p *pair.Pair, side int) int {
	t.Helper()
	last := p.Look(1 - side).Last
	h := api.Header{Height: last, Time: p.Look(1 - side).Time}
	if e := p.Do(side, pair.Claim{Msg: api.Msg{Kind: api.MsgUpdate, Header: h}, Told: true}); e != api.OK {
		t.Fatalf("Update: %d", e)
	}
	return last
}

// turn commits both sides, and both know that.
func turn(t *testing.T, p *pair.Pair) int {
	t.Helper()
	p.Commit(0)
	p.Commit(1)
	tell(t, p, 0)
	return tell(t, p, 1)
}

func good(m api.Msg) pair.Claim {
	return pair.Claim{Msg: m, Good: true, GoodClose: true}
}

func want(t *testing.T, p *pair.Pair, side int, c pair.Claim, want api.Errno) {
	t.Helper()
	before := [2]pair.Look{p.Look(0), p.Look(1)}
	e := p.Do(side, c)
	if e != want {
		t.Errorf("kind %d: %d, not %d", c.Msg.Kind, e, want)
	}
	if e != api.OK && !reflect.DeepEqual(before, [2]pair.Look{p.Look(0), p.Look(1)}) {
		t.Errorf("kind %d: error %d has changed something", c.Msg.Kind, e)
	}
}

func TestUpdate(t *testing.T) { // P30.3
	p := newPair(t)
	p.Tick(1, 4)
	p.Commit(1)
	update := func(height, time int, told bool) pair.Claim {
		return pair.Claim{Msg: api.Msg{Kind: api.MsgUpdate, Header: api.Header{Height: height, Time: time, Root: api.Hash{7}}}, Told: told}
	}
	want(t, p, 0, update(1, 4, false), api.ErrHeader)
	want(t, p, 0, update(1, 3, true), api.ErrHeader)
	want(t, p, 0, update(2, 4, true), api.ErrHeader)
	want(t, p, 0, update(0, 4, true), api.ErrRange)
	want(t, p, 1, update(1, 4, true), api.ErrHeader)
	want(t, p, 0, update(1, 4, true), api.OK)
	want(t, p, 0, update(1, 4, true), api.OK)
	if l := p.Look(0); !slices.Equal(l.Known, []int{1}) {
		t.Errorf("Known: %v", l.Known)
	}
}

func TestRecvAndAck(t *testing.T) { // P30.3, P30.5
	for _, end := range []func(int) api.End{scene.Open, scene.Ordered} {
		p := newPair(t)
		x, _ := p.Send(0, end(0), "x", 0, 0)
		y, _ := p.Send(0, end(0), "!", 9, 9)
		recv := api.Msg{Kind: api.MsgRecv, Packet: x, Height: 1}
		want(t, p, 1, good(recv), api.ErrClient)
		h := turn(t, p)
		want(t, p, 1, pair.Claim{Msg: recv}, api.ErrProof)
		want(t, p, 0, good(recv), api.ErrChannel)
		changed := recv
		changed.Packet.Data = "z"
		want(t, p, 1, good(changed), api.ErrProof)
		changed.Packet.Seq = 0
		want(t, p, 1, good(changed), api.ErrRange)
		second := api.Msg{Kind: api.MsgRecv, Packet: y, Height: 7}
		want(t, p, 1, good(second), map[bool]api.Errno{true: api.ErrOrder, false: api.ErrClient}[end(0) == scene.Ordered(0)])
		want(t, p, 1, good(recv), api.OK)
		want(t, p, 1, good(recv), api.ErrReceived)
		second.Height = h
		want(t, p, 1, good(second), api.OK)
		ack := api.Msg{Kind: api.MsgAck, Packet: x, Ack: "ok:x", Height: h}
		want(t, p, 0, good(ack), api.ErrProof)
		ack.Height = turn(t, p)
		want(t, p, 0, pair.Claim{Msg: ack}, api.ErrProof)
		changed = ack
		changed.Ack = "no"
		want(t, p, 0, good(changed), api.ErrProof)
		changed.Packet.Data = "z"
		want(t, p, 0, good(changed), api.ErrCommit)
		want(t, p, 0, good(ack), api.OK)
		want(t, p, 0, good(ack), api.ErrCommit)
		i := slices.IndexFunc(p.Look(1).Ends, func(e pair.End) bool { return e.End == end(1) })
		got := p.Look(1).Ends[i]
		if end(0) == scene.Ordered(0) {
			if len(got.Got) != 0 || got.NextRecv != 3 || p.Look(0).Ends[i].NextAck != 2 {
				t.Errorf("an ordered end: %v", got)
			}
		} else if !slices.Equal(got.Got, []int{1, 2}) || got.NextRecv != 1 || p.Look(0).Ends[i].NextAck != 1 {
			t.Errorf("an unordered end: %v", got)
		}
		if !slices.Equal(got.Wrote, []int{1, 2}) || !slices.Equal(p.Look(0).Ends[i].Kept, []api.Packet{y}) {
			t.Errorf("the packets: %v", got)
		}
	}
}

func TestTimeouts(t *testing.T) { // P30.3
	p := newPair(t)
	x, _ := p.Send(0, scene.Open(0), "x", 2, 0)
	y, _ := p.Send(0, scene.Open(0), "y", 0, 0)
	h := turn(t, p)
	m := api.Msg{Kind: api.MsgTimeout, Packet: x, Height: h}
	want(t, p, 0, good(m), api.ErrEarly)
	want(t, p, 1, good(api.Msg{Kind: api.MsgRecv, Packet: y, Height: h}), api.OK)
	m.Height = turn(t, p)
	m.Next = 1
	want(t, p, 0, good(m), api.ErrRange)
	m.Next = 0
	want(t, p, 0, pair.Claim{Msg: m, GoodClose: true}, api.ErrProof)
	want(t, p, 0, good(m), api.OK)
	want(t, p, 0, good(m), api.ErrCommit)
	want(t, p, 0, good(api.Msg{Kind: api.MsgOnClose, Packet: y, Height: h}), api.ErrProof)
}

func TestClose(t *testing.T) { // P30.3
	p := newPair(t)
	x, _ := p.Send(0, scene.Ordered(0), "x", 1, 0)
	y, _ := p.Send(0, scene.Ordered(0), "y", 1, 0)
	back, _ := p.Send(1, scene.Ordered(1), "back", 0, 0)
	h := turn(t, p)
	m := api.Msg{Kind: api.MsgTimeout, Packet: y, Next: 1, Height: h}
	want(t, p, 0, good(m), api.ErrOrder)
	m.Next = 2
	want(t, p, 0, good(m), api.ErrProof)
	m.Next = 3
	want(t, p, 0, good(m), api.ErrReceived)
	m.Next = 0
	want(t, p, 0, good(m), api.ErrRange)
	m.Packet, m.Next = x, 1
	onClose := api.Msg{Kind: api.MsgOnClose, Packet: back, Next: 1, Height: h}
	want(t, p, 1, good(onClose), api.ErrProof)
	want(t, p, 0, good(m), api.OK)
	if l := p.Look(0).Ends[1]; l.State != (ends.State{Other: scene.Ordered(1), Ordered: true, Closed: true, Stop: 1}) {
		t.Errorf("the state: %v", l.State)
	}
	if _, e := p.Send(0, scene.Ordered(0), "", -1, 0); e != api.ErrClosed {
		t.Errorf("Send: %d", e)
	}
	want(t, p, 0, good(api.Msg{Kind: api.MsgRecv, Packet: back, Height: h}), api.ErrClosed)
	m.Packet = y
	want(t, p, 0, good(m), api.OK)
	onClose.Height = turn(t, p)
	want(t, p, 1, pair.Claim{Msg: onClose, Good: true}, api.ErrProof)
	want(t, p, 1, pair.Claim{Msg: onClose, GoodClose: true}, api.ErrProof)
	wrong := onClose
	wrong.Next = 2
	want(t, p, 1, good(wrong), api.ErrReceived)
	want(t, p, 1, good(onClose), api.OK)
	if l := p.Look(1).Ends[1]; !l.State.Closed || l.State.Stop != 1 || len(l.Kept) != 0 {
		t.Errorf("the state: %v", l)
	}
}

func TestDueAndWaits(t *testing.T) { // P30.4
	p := newPair(t)
	paths := scene.Conf().Paths
	x, _ := p.Send(0, scene.Open(0), "x", 0, 0)
	if len(p.Due(paths)) != 0 || len(p.Waits(paths)) != 0 {
		t.Error("a packet that is not committed is due")
	}
	p.Commit(0)
	p.Commit(1)
	item := api.Item{Kind: api.Recv, To: 1, End: scene.Open(0), Seq: 1}
	if got := p.Due(paths); !slices.Equal(got, []api.Item{item}) {
		t.Errorf("Due: %v", got)
	}
	if got := p.Due([]api.Path{paths[0], paths[1], paths[0], {A: scene.Open(1), B: scene.Open(0)}}); !slices.Equal(got, []api.Item{item, item}) {
		t.Errorf("Due of a path that occurs twice: %v", got)
	}
	if got := p.Due([]api.Path{{A: scene.Open(0)}}); !slices.Equal(got, []api.Item{item}) || len(p.Due(paths[1:])) != 0 {
		t.Errorf("Due of one end: %v", got)
	}
	tell(t, p, 1)
	want(t, p, 1, good(api.Msg{Kind: api.MsgRecv, Packet: x, Height: 1}), api.OK)
	wait := api.Item{Kind: api.Wait, To: 0, End: scene.Open(0), Seq: 1}
	if got := p.Waits(paths); !slices.Equal(got, []api.Item{wait}) || len(p.Due(paths)) != 0 {
		t.Errorf("Waits: %v", got)
	}
	p.Commit(1)
	item.Kind, item.To = api.Ack, 0
	if got := p.Due(paths); !slices.Equal(got, []api.Item{item}) || len(p.Waits(paths)) != 0 {
		t.Errorf("Due of an acknowledgement: %v", got)
	}
}

func TestMemory(t *testing.T) { // P0.4
	p := newPair(t)
	p.Send(0, scene.Open(0), "x", 0, 0)
	turn(t, p)
	l := p.Look(0)
	again := p.Look(0)
	l.Known[0], l.Ends[0].NextSend, l.Ends[0].Kept[0].Seq = 9, 9, 9
	_ = append(l.Ends[0].Kept, api.Packet{})
	if !reflect.DeepEqual(p.Look(0), again) {
		t.Error("Look is part of the pair")
	}
}
