package handle_test

import (
	"slices"
	"strings"
	"testing"

	"lighterman/api"
	"lighterman/app"
	"lighterman/client"
	"lighterman/ends"
	"lighterman/handle"
	"lighterman/packet"
	"lighterman/past"
	"lighterman/path"
	"lighterman/sha"
	"lighterman/store"
)

var (
	open    = [2]api.End{{Port: "ua", Chan: 0}, {Port: "ub", Chan: 10}} // an unordered channel
	ordered = [2]api.End{{Port: "oa", Chan: 1}, {Port: "ob", Chan: 11}} // an ordered channel
)

// net is two chains without blocks: their grounds, and what they have committed.
type net struct {
	t    *testing.T
	g    [2]handle.Ground
	past [2]*past.Past
}

func newNet(t *testing.T) *net {
	n := &net{t: t}
	for side := range n.g {
		s := store.New()
		ends.Init(s, []api.Gen{
			{Own: open[side], Other: open[1-side], First: 1}, {Own: ordered[side], Other: ordered[1-side], Ordered: true, First: 1},
		})
		n.g[side] = handle.Ground{Store: s, Client: client.New(), Height: 1}
		n.past[side] = past.New()
	}
	return n
}

// commit ends the pending blocks of both sides, and both learn the headers.
func (n *net) commit() {
	for side := range n.g {
		g := &n.g[side]
		n.past[side].Keep(g.Height, g.Time, g.Store)
		g.Height++
	}
	for side := range n.g {
		n.g[side].Told = n.past[1-side].Headers()
		h, _ := n.past[1-side].Header(n.past[1-side].Last())
		n.want(side, api.Msg{Kind: api.MsgUpdate, Header: h}, api.OK)
	}
}

func (n *net) send(side int, e api.End, data string, timeHeight, timeAt int) api.Packet {
	n.t.Helper()
	p, _, err := handle.Send(n.g[side], e, data, timeHeight, timeAt)
	if err != api.OK {
		n.t.Fatalf("Send: %d", err)
	}
	return p
}

// want executes a message, which has to return an error number, and to change nothing if that is not OK.
func (n *net) want(side int, m api.Msg, want api.Errno) []api.Event {
	n.t.Helper()
	g := n.g[side]
	pairs, states := g.Store.Pairs(), g.Client.States()
	l, e := handle.Do(g, m)
	if e != want {
		n.t.Errorf("kind %d: %d, not %d", m.Kind, e, want)
	}
	if e != api.OK && (len(l) != 0 || !slices.Equal(pairs, g.Store.Pairs()) || !slices.Equal(states, g.Client.States())) {
		n.t.Errorf("kind %d: error %d has changed something", m.Kind, e)
	}
	return l
}

func (n *net) prove(side int, kind int, e api.End, seq int) api.Proof {
	p, _ := n.past[side].Prove(n.past[side].Last(), path.Of(kind, e, seq))
	return p
}

// The messages to side for packets, with the proofs at the last committed height of the other side.

func (n *net) recv(side int, p api.Packet) api.Msg {
	return api.Msg{Kind: api.MsgRecv, Packet: p, Height: n.past[1-side].Last(), Proof: n.prove(1-side, path.Commitments, p.Src, p.Seq)}
}

func (n *net) ack(side int, p api.Packet) api.Msg {
	return api.Msg{Kind: api.MsgAck, Packet: p, Ack: app.Answer(p.Data), Height: n.past[1-side].Last(), Proof: n.prove(1-side, path.Acks, p.Dst, p.Seq)}
}

func (n *net) timeout(side int, p api.Packet, next int) api.Msg {
	m := api.Msg{Kind: api.MsgTimeout, Packet: p, Next: next, Height: n.past[1-side].Last()}
	if p.Src == ordered[side] {
		m.Proof = n.prove(1-side, path.NextRecv, p.Dst, 0)
	} else {
		m.Proof = n.prove(1-side, path.Receipts, p.Dst, p.Seq)
	}
	return m
}

func (n *net) onClose(side int, p api.Packet, next int) api.Msg {
	m := n.timeout(side, p, next)
	m.Kind = api.MsgOnClose
	m.Close = n.prove(1-side, path.ChannelEnds, p.Dst, 0)
	return m
}

// changed returns m after a change, which may be of its proofs too.
func changed(m api.Msg, f func(m *api.Msg)) api.Msg {
	m.Proof.Leaves = slices.Clone(m.Proof.Leaves)
	f(&m)
	return m
}

// shut closes an end by hand.
func (n *net) shut(side int, e api.End, stop int) {
	x, _ := ends.Get(n.g[side].Store, e)
	x.Closed, x.Stop = true, stop
	if err := ends.Put(n.g[side].Store, e, x); err != api.OK {
		n.t.Fatalf("Put: %d", err)
	}
}

func (n *net) state(side int, e api.End) ends.State {
	x, _ := ends.Get(n.g[side].Store, e)
	return x
}

func (n *net) next(side int, kind int, e api.End) int {
	return ends.Next(n.g[side].Store, kind, e)
}

func (n *net) value(side int, kind int, e api.End, seq int) string {
	v, _ := n.g[side].Store.Get(path.Of(kind, e, seq))
	return v
}

func TestSend(t *testing.T) { // P18.2
	n := newNet(t)
	g := n.g[0]
	for seq := 1; seq <= 2; seq++ {
		want := api.Packet{Src: open[0], Dst: open[1], Seq: seq, Data: "hi", TimeHeight: 5, TimeAt: 6}
		p, l, e := handle.Send(g, open[0], "hi", 5, 6)
		if p != want || e != api.OK || !slices.Equal(l, []api.Event{{Kind: api.EvSend, Packet: want}}) {
			t.Errorf("Send: %v, %v, %d", p, l, e)
		}
		if n.next(0, path.NextSend, open[0]) != seq+1 || n.value(0, path.Commitments, open[0], seq) != sha.Text(packet.Commit(p)) {
			t.Error("Send has not stored the packet")
		}
	}
	if g.Store.Len() != 10 {
		t.Errorf("%d keys", g.Store.Len())
	}
}

func TestSendFails(t *testing.T) { // P18.2
	n := newNet(t)
	long := strings.Repeat("x", api.MaxData+1)
	refuse := func(e api.End, data string, height, at int, want api.Errno) {
		t.Helper()
		before := n.g[0].Store.Pairs()
		p, l, err := handle.Send(n.g[0], e, data, height, at)
		if p != (api.Packet{}) || len(l) != 0 || err != want || !slices.Equal(before, n.g[0].Store.Pairs()) {
			t.Errorf("Send: %v, %v, %d, not %d", p, l, err, want)
		}
	}
	for _, e := range []api.End{{}, open[1], {Port: "UA"}} {
		refuse(e, long, -1, 0, api.ErrChannel)
	}
	refuse(open[0], long, 0, 0, api.ErrRange)
	refuse(open[0], "", -1, 0, api.ErrRange)
	refuse(open[0], "", 0, api.MaxTime+1, api.ErrRange)
	ends.SetNext(n.g[0].Store, path.NextSend, open[0], api.MaxSeq+1)
	refuse(open[0], "", 0, 0, api.ErrOver)
	refuse(open[0], long, 0, 0, api.ErrOver)
	n.shut(0, open[0], 0)
	refuse(open[0], long, 0, 0, api.ErrClosed)
	n.g[0].Store.Drop(path.Of(path.NextSend, ordered[0], 0))
	refuse(ordered[0], "", 0, 0, api.ErrRange)
	ends.SetNext(n.g[0].Store, path.NextSend, ordered[0], api.MaxSeq)
	if p := n.send(0, ordered[0], "", 0, 0); p.Seq != api.MaxSeq || n.next(0, path.NextSend, ordered[0]) != api.MaxSeq+1 {
		t.Errorf("the last packet: %v", p)
	}
}

func TestUpdate(t *testing.T) { // P18.3
	n := newNet(t)
	h, other := api.Header{Height: 3, Time: 1, Root: api.Hash{1}}, api.Header{Height: 3, Time: 1, Root: api.Hash{2}}
	n.g[0].Told = []api.Header{h, other}
	if l := n.want(0, api.Msg{Kind: api.MsgUpdate, Header: h}, api.OK); !slices.Equal(l, []api.Event{{Kind: api.EvUpdate, Height: 3}}) {
		t.Errorf("the events: %v", l)
	}
	if l := n.want(0, api.Msg{Kind: api.MsgUpdate, Header: h}, api.OK); len(l) != 0 {
		t.Errorf("the events of a known header: %v", l)
	}
	if got, ok := n.g[0].Client.State(3); got != h || !ok {
		t.Error("the header is not known")
	}
	n.want(0, api.Msg{Kind: api.MsgUpdate, Header: other}, api.ErrTwice)
	n.want(0, api.Msg{Kind: api.MsgUpdate, Header: api.Header{Height: 3}}, api.ErrHeader)
	n.want(0, api.Msg{Kind: api.MsgUpdate}, api.ErrRange)
	n.want(0, api.Msg{Kind: api.MsgUpdate, Header: h, Height: 1}, api.ErrRange)
	n.want(0, api.Msg{}, api.ErrRange)
	n.want(0, api.Msg{Kind: api.MsgRecv, Height: 1}, api.ErrRange)
}

func TestRecv(t *testing.T) { // P18.3
	for _, e := range [][2]api.End{open, ordered} {
		n := newNet(t)
		p := n.send(0, e[0], "hi", 0, 0)
		q := n.send(0, e[0], "!", 0, 0)
		n.commit()
		l := n.want(1, n.recv(1, p), api.OK)
		if !slices.Equal(l, []api.Event{{Kind: api.EvRecv, Packet: p}, {Kind: api.EvWrite, Packet: p, Ack: "ok:hi"}}) {
			t.Errorf("the events: %v", l)
		}
		n.want(1, n.recv(1, q), api.OK)
		if n.value(1, path.Acks, e[1], 1) != sha.Text(sha.Sum("ok:hi")) || n.value(1, path.Acks, e[1], 2) != sha.Text(sha.Sum("no")) {
			t.Error("the acknowledgements")
		}
		receipt, next := "\x01", 1
		if e == ordered {
			receipt, next = "", 3
		}
		if n.value(1, path.Receipts, e[1], 1) != receipt || n.next(1, path.NextRecv, e[1]) != next {
			t.Error("the receipt")
		}
		n.want(1, n.recv(1, p), api.ErrReceived)
		n.want(1, changed(n.recv(1, p), func(m *api.Msg) { m.Proof = api.Proof{} }), api.ErrReceived)
	}
}

func TestRecvFails(t *testing.T) { // P18.3
	for _, e := range [][2]api.End{open, ordered} {
		n := newNet(t)
		p := n.send(0, e[0], "hi", 4, 0)
		q := n.send(0, e[0], "hi", 0, 7)
		n.commit()
		good := n.recv(1, p)
		for i, f := range []func(m *api.Msg){
			func(m *api.Msg) { m.Packet.Dst.Chan++ }, func(m *api.Msg) { m.Packet.Src.Chan++ }, func(m *api.Msg) { m.Packet.Src = m.Packet.Dst },
		} {
			m := changed(good, f)
			n.want(1, m, api.ErrChannel)
			if i == 0 {
				n.want(0, m, api.ErrChannel)
			}
		}
		// A changed packet, another height, another proof: what is not proved.
		n.want(1, changed(good, func(m *api.Msg) { m.Packet.Data = "ho" }), api.ErrProof)
		n.want(1, changed(good, func(m *api.Msg) { m.Packet.TimeHeight = 0 }), api.ErrProof)
		n.want(1, changed(good, func(m *api.Msg) { m.Packet.TimeAt = 9 }), api.ErrProof)
		n.want(1, changed(good, func(m *api.Msg) { m.Proof = n.recv(1, q).Proof }), api.ErrProof)
		n.want(1, changed(good, func(m *api.Msg) { m.Proof = api.Proof{} }), api.ErrProof)
		n.want(1, changed(good, func(m *api.Msg) { m.Height++ }), api.ErrClient)
		n.want(1, changed(good, func(m *api.Msg) { m.Height++; m.Proof = api.Proof{} }), api.ErrClient)
		skipped := changed(n.recv(1, q), func(m *api.Msg) { m.Height++ })
		if e == ordered {
			n.want(1, skipped, api.ErrOrder)
		} else {
			n.want(1, skipped, api.ErrClient)
		}
		// Expiry comes before the order, a closed end before expiry.
		n.g[1].Time = 6
		n.g[1].Height = 4
		n.want(1, good, api.ErrTimeout)
		n.g[1].Height = 3
		n.want(1, good, api.OK)
		n.want(1, n.recv(1, q), api.OK)
		n.g[1].Time = 7
		n.want(1, n.recv(1, q), api.ErrTimeout)
		n.shut(1, e[1], map[bool]int{true: 1}[e == ordered])
		n.want(1, n.recv(1, q), api.ErrClosed)
		n.want(1, changed(good, func(m *api.Msg) { m.Packet.Src.Chan++ }), api.ErrChannel)
	}
}

func TestAck(t *testing.T) { // P18.3
	for _, e := range [][2]api.End{open, ordered} {
		n := newNet(t)
		p, q := n.send(0, e[0], "hi", 0, 0), n.send(0, e[0], "!", 0, 0)
		n.commit()
		n.want(0, n.ack(0, p), api.ErrProof)
		n.want(1, n.recv(1, p), api.OK)
		n.want(1, n.recv(1, q), api.OK)
		n.commit()
		good := n.ack(0, p)
		n.want(0, changed(good, func(m *api.Msg) { m.Packet.Dst.Chan++; m.Packet.Data = "" }), api.ErrChannel)
		n.want(0, changed(good, func(m *api.Msg) { m.Packet.Src.Chan++ }), api.ErrChannel)
		n.want(1, good, api.ErrChannel)
		n.want(0, changed(good, func(m *api.Msg) { m.Packet.Data = "ho"; m.Height = 99 }), api.ErrCommit)
		n.want(0, changed(good, func(m *api.Msg) { m.Packet.Seq = 3 }), api.ErrCommit)
		second := changed(n.ack(0, q), func(m *api.Msg) { m.Height = 99 })
		if e == ordered {
			n.want(0, second, api.ErrOrder)
		} else {
			n.want(0, second, api.ErrClient)
		}
		n.want(0, changed(good, func(m *api.Msg) { m.Height = 99; m.Ack = "no" }), api.ErrClient)
		n.want(0, changed(good, func(m *api.Msg) { m.Ack = "no" }), api.ErrProof)
		n.want(0, changed(good, func(m *api.Msg) { m.Height = 1 }), api.ErrProof)
		if e == ordered {
			n.shut(0, e[0], 1) // a closed end accepts acknowledgements
		}
		if l := n.want(0, good, api.OK); !slices.Equal(l, []api.Event{{Kind: api.EvAck, Packet: p}}) {
			t.Errorf("the events: %v", l)
		}
		next := map[bool]int{false: 1, true: 2}[e == ordered]
		if n.value(0, path.Commitments, e[0], 1) != "" || n.next(0, path.NextAck, e[0]) != next {
			t.Error("the packet is kept")
		}
		n.want(0, good, api.ErrCommit)
		n.want(0, n.ack(0, q), api.OK)
	}
}

func TestTimeoutUnordered(t *testing.T) { // P18.3
	n := newNet(t)
	p, q, r := n.send(0, open[0], "p", 2, 0), n.send(0, open[0], "q", 0, 5), n.send(0, open[0], "r", 0, 0)
	n.commit()
	n.want(0, n.timeout(0, p, 0), api.ErrEarly)
	n.want(1, n.recv(1, q), api.OK)
	n.g[1].Time = 5
	n.commit()
	good := n.timeout(0, p, 0)
	n.want(0, changed(good, func(m *api.Msg) { m.Packet.Dst.Chan++ }), api.ErrChannel)
	n.want(0, changed(good, func(m *api.Msg) { m.Packet.Data = "x"; m.Height = 99 }), api.ErrCommit)
	n.want(0, changed(good, func(m *api.Msg) { m.Height = 99; m.Next = 1 }), api.ErrClient)
	n.want(0, changed(good, func(m *api.Msg) { m.Height = 1; m.Next = 1 }), api.ErrEarly)
	n.want(0, changed(good, func(m *api.Msg) { m.Next = 1; m.Proof = api.Proof{} }), api.ErrRange)
	n.want(0, changed(good, func(m *api.Msg) { m.Proof = api.Proof{} }), api.ErrProof)
	n.want(0, changed(good, func(m *api.Msg) { m.Proof = n.timeout(0, q, 0).Proof }), api.ErrProof)
	n.want(0, n.timeout(0, q, 0), api.ErrProof) // it has been received
	n.want(0, n.timeout(0, r, 0), api.ErrEarly)
	if l := n.want(0, good, api.OK); !slices.Equal(l, []api.Event{{Kind: api.EvTimeout, Packet: p}}) {
		t.Errorf("the events: %v", l)
	}
	if n.value(0, path.Commitments, open[0], 1) != "" || n.state(0, open[0]).Closed {
		t.Error("the packet is kept, or the end is closed")
	}
	n.want(0, good, api.ErrCommit)
	n.shut(0, open[0], 0)
	n.want(0, n.timeout(0, r, 0), api.OK) // a closed end needs no expiry
}

func TestTimeoutOrdered(t *testing.T) { // P18.3
	n := newNet(t)
	a, p, q, r := n.send(0, ordered[0], "a", 0, 0), n.send(0, ordered[0], "p", 2, 0), n.send(0, ordered[0], "q", 2, 0), n.send(0, ordered[0], "r", 0, 0)
	n.commit()
	n.want(1, n.recv(1, a), api.OK)
	n.want(0, n.timeout(0, p, 0), api.ErrEarly)
	n.commit()
	good := n.timeout(0, p, 2)
	n.want(0, changed(good, func(m *api.Msg) { m.Next = 0; m.Proof = api.Proof{} }), api.ErrRange)
	n.want(0, changed(good, func(m *api.Msg) { m.Next = 3; m.Proof = api.Proof{} }), api.ErrReceived)
	n.want(0, changed(good, func(m *api.Msg) { m.Next = 1; m.Proof = api.Proof{} }), api.ErrOrder)
	n.want(0, n.timeout(0, q, 2), api.ErrOrder)
	n.want(0, n.timeout(0, q, 3), api.ErrProof)
	n.want(0, changed(good, func(m *api.Msg) { m.Proof = n.prove(1, path.Receipts, p.Dst, p.Seq) }), api.ErrProof)
	n.want(0, n.timeout(0, r, 2), api.ErrEarly)
	l := n.want(0, good, api.OK)
	if !slices.Equal(l, []api.Event{{Kind: api.EvTimeout, Packet: p}, {Kind: api.EvClose, End: ordered[0]}}) {
		t.Errorf("the events: %v", l)
	}
	if got := n.state(0, ordered[0]); got != (ends.State{Other: ordered[1], Ordered: true, Closed: true, Stop: 2}) {
		t.Errorf("the state: %v", got)
	}
	n.want(0, good, api.ErrCommit)
	// Now the end is closed: no expiry is needed, and Next is at least Stop.
	n.want(0, changed(n.timeout(0, r, 1), func(m *api.Msg) { m.Proof = api.Proof{} }), api.ErrOrder)
	n.want(0, n.timeout(0, r, 5), api.ErrReceived)
	n.want(0, n.timeout(0, r, 3), api.ErrProof)
	n.want(0, n.timeout(0, a, 2), api.ErrReceived)
	if l := n.want(0, n.timeout(0, r, 2), api.OK); !slices.Equal(l, []api.Event{{Kind: api.EvTimeout, Packet: r}}) {
		t.Errorf("the events of a closed end: %v", l)
	}
	n.want(0, n.timeout(0, q, 2), api.OK)
	n.want(0, n.ack(0, a), api.OK)
	if _, _, e := handle.Send(n.g[0], ordered[0], "", 0, 0); e != api.ErrClosed {
		t.Errorf("Send on a closed end: %d", e)
	}
}

func TestOnCloseOrdered(t *testing.T) { // P18.3
	n := newNet(t)
	a, p, q := n.send(0, ordered[0], "a", 0, 0), n.send(0, ordered[0], "p", 0, 0), n.send(0, ordered[0], "q", 0, 0)
	n.commit()
	n.want(1, n.recv(1, a), api.OK)
	n.commit()
	n.want(0, n.onClose(0, p, 2), api.ErrProof) // the other end is open
	n.shut(1, ordered[1], 1)
	n.commit()
	good := n.onClose(0, q, 2)
	n.want(0, changed(good, func(m *api.Msg) { m.Packet.Dst.Chan++ }), api.ErrChannel)
	n.want(0, changed(good, func(m *api.Msg) { m.Packet.Data = "x"; m.Height = 99 }), api.ErrCommit)
	n.want(0, changed(good, func(m *api.Msg) { m.Height = 99; m.Close = api.Proof{} }), api.ErrClient)
	n.want(0, changed(good, func(m *api.Msg) { m.Height--; m.Next = 0 }), api.ErrProof)
	n.want(0, changed(good, func(m *api.Msg) { m.Close, m.Next = api.Proof{}, 0 }), api.ErrProof)
	n.want(0, changed(good, func(m *api.Msg) { m.Close = n.prove(1, path.ChannelEnds, open[1], 0) }), api.ErrProof)
	n.want(0, changed(good, func(m *api.Msg) { m.Next = 0; m.Proof = api.Proof{} }), api.ErrRange)
	n.want(0, n.onClose(0, q, 4), api.ErrReceived)
	n.want(0, n.onClose(0, a, 2), api.ErrReceived)
	n.want(0, n.onClose(0, q, 3), api.ErrProof)
	l := n.want(0, good, api.OK)
	if !slices.Equal(l, []api.Event{{Kind: api.EvTimeout, Packet: q}, {Kind: api.EvClose, End: ordered[0]}}) {
		t.Errorf("the events: %v", l)
	}
	if got := n.state(0, ordered[0]); !got.Closed || got.Stop != 2 || n.value(0, path.Commitments, ordered[0], 3) != "" {
		t.Errorf("the state: %v", got)
	}
	if l := n.want(0, n.onClose(0, p, 2), api.OK); !slices.Equal(l, []api.Event{{Kind: api.EvTimeout, Packet: p}}) {
		t.Errorf("the events of a closed end: %v", l)
	}
	n.want(0, n.onClose(0, p, 2), api.ErrCommit)
}

func TestOnCloseUnordered(t *testing.T) { // P18.3
	n := newNet(t)
	p, q := n.send(0, open[0], "p", 0, 0), n.send(0, open[0], "q", 0, 0)
	n.commit()
	n.want(1, n.recv(1, q), api.OK)
	n.shut(1, open[1], 0)
	n.commit()
	n.want(0, n.onClose(0, p, 1), api.ErrRange)
	n.want(0, n.onClose(0, q, 0), api.ErrProof)
	n.want(0, n.onClose(0, p, 0), api.OK)
	if n.state(0, open[0]).Closed {
		t.Error("an unordered end has been closed")
	}
	// The closed end has another end as its Other.
	x := n.state(1, open[1])
	x.Other.Chan = 99
	ends.Put(n.g[1].Store, open[1], x)
	r := n.send(0, open[0], "r", 0, 0)
	n.commit()
	n.want(0, n.onClose(0, r, 0), api.ErrProof)
}

func TestErrorsBeforeAll(t *testing.T) { // P18.1
	n := newNet(t)
	p := n.send(0, open[0], "p", 0, 0)
	n.commit()
	for _, m := range []api.Msg{n.recv(1, p), n.ack(1, p), n.timeout(1, p, 0), n.onClose(1, p, 0)} {
		n.want(1, changed(m, func(m *api.Msg) { m.Packet.Seq = 0 }), api.ErrRange)
		n.want(1, changed(m, func(m *api.Msg) { m.Header.Height = 1 }), api.ErrRange)
		n.want(1, changed(m, func(m *api.Msg) { m.Proof.Count = -1 }), api.ErrRange)
	}
}
