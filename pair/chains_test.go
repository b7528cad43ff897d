package pair_test

import (
	"math/rand"
	"reflect"
	"slices"
	"testing"

	"lighterman/api"
	"lighterman/app"
	"lighterman/chain"
	"lighterman/conf"
	"lighterman/ends"
	"lighterman/leb"
	"lighterman/msg"
	"lighterman/packet"
	"lighterman/pair"
	"lighterman/path"
	"lighterman/plan"
	"lighterman/proof"
	"lighterman/scene"
	"lighterman/sha"
)

// twin is two chains and their model, which are given the same acts.
type twin struct {
	t       *testing.T
	r       *rand.Rand
	s       *scene.Scene
	p       *pair.Pair
	packets []api.Packet
	counts  map[outcome]int
}

// outcome is a kind of messages and what becomes of them.
type outcome struct {
	kind int
	code api.Errno
}

func newTwin(t *testing.T, r *rand.Rand, counts map[outcome]int) *twin {
	t.Helper()
	first := []int{1, 2, api.MaxSeq - 2}[r.Intn(3)]
	c := scene.Conf()
	a, _ := conf.Setup(c, 0, first)
	b, _ := conf.Setup(c, 1, first)
	p, e := pair.New(a, b)
	if e != api.OK {
		t.Fatalf("New: %d", e)
	}
	return &twin{t: t, r: r, s: scene.Of(c, first), p: p, counts: counts}
}

func (w *twin) chain(side int) *chain.Chain { return w.s.Chains[side] }

// height returns a height of a side, most often one that the other side knows.
func (w *twin) height(side int) int {
	known := w.chain(1 - side).States()
	if len(known) == 0 || w.r.Intn(12) == 0 {
		return w.chain(side).Last() + w.r.Intn(4) - 1
	}
	return known[len(known)-1-w.r.Intn(min(2, len(known)))].Height
}

func (w *twin) send() {
	side := w.r.Intn(2)
	e := scene.Open(side)
	if w.r.Intn(2) == 0 {
		e = scene.Ordered(side)
	}
	timeHeight, timeAt := 0, 0
	if w.r.Intn(2) == 0 {
		timeHeight = w.chain(1-side).Height() + w.r.Intn(4) - 1
	}
	if w.r.Intn(4) == 0 {
		timeAt = w.chain(1-side).Time() + w.r.Intn(4)
	}
	data := []string{"", "x", "!", "hello"}[w.r.Intn(4)]
	p, e1 := w.chain(side).Send(e, data, timeHeight, timeAt)
	q, e2 := w.p.Send(side, e, data, timeHeight, timeAt)
	if p != q || e1 != e2 {
		w.t.Fatalf("Send: %v, %d; the model: %v, %d", p, e1, q, e2)
	}
	if e1 == api.OK {
		w.packets = append(w.packets, p)
	}
}

// key is what the message of a kind has to prove on the other side.
func key(kind int, p api.Packet, next int) string {
	switch {
	case kind == api.MsgRecv:
		return path.Of(path.Commitments, p.Src, p.Seq)
	case kind == api.MsgAck:
		return path.Of(path.Acks, p.Dst, p.Seq)
	case p.Dst.Port == "queue":
		return path.Of(path.NextRecv, p.Dst, 0)
	}
	return path.Of(path.Receipts, p.Dst, p.Seq)
}

// message returns a message about some packet, most often one that could be accepted.
func (w *twin) message() (int, api.Msg) {
	p := w.packets[w.r.Intn(len(w.packets))]
	kind := api.MsgRecv + w.r.Intn(4)
	side := 0
	if p.Src == scene.Open(1) || p.Src == scene.Ordered(1) {
		side = 1
	}
	if kind == api.MsgRecv {
		side = 1 - side
	}
	m := api.Msg{Kind: kind, Packet: p, Height: w.height(1 - side)}
	if kind == api.MsgAck {
		m.Ack = app.Answer(p.Data)
	}
	if kind >= api.MsgTimeout && p.Src.Port == "queue" {
		v, _ := w.chain(1-side).Get(m.Height, path.Of(path.NextRecv, p.Dst, 0))
		m.Next, _, _ = leb.Next(v, 0)
	}
	w.spoil(&m)
	m.Proof, _ = w.chain(1-side).Prove(m.Height, key(kind, m.Packet, m.Next))
	if kind == api.MsgOnClose {
		m.Close, _ = w.chain(1-side).Prove(m.Height, path.Of(path.ChannelEnds, m.Packet.Dst, 0))
	}
	if w.r.Intn(12) == 0 {
		m.Proof, _ = w.chain(1-side).Prove(m.Height+w.r.Intn(2)-1, key(kind, w.packets[w.r.Intn(len(w.packets))], 0))
	}
	if w.r.Intn(12) == 0 && len(m.Proof.Leaves) > 0 && len(m.Proof.Leaves[0].Path) > 0 {
		m.Proof.Leaves[0].Path[0][w.r.Intn(32)] ^= 1
	}
	if w.r.Intn(12) == 0 && kind == api.MsgOnClose {
		m.Close = m.Proof
	}
	if w.r.Intn(20) == 0 {
		side = 1 - side
	}
	return side, m
}

// spoil changes something of a message, now and then.
func (w *twin) spoil(m *api.Msg) {
	switch w.r.Intn(24) {
	case 0:
		m.Packet.Data += "y"
	case 1:
		m.Packet.Seq++
	case 2:
		m.Packet.TimeHeight++
	case 3:
		m.Packet.Dst.Chan++
	case 4:
		m.Packet.Src, m.Packet.Dst = m.Packet.Dst, m.Packet.Src
	case 5:
		if m.Kind == api.MsgAck {
			m.Ack = "no"
		}
	case 6:
		if m.Kind >= api.MsgTimeout {
			m.Next += w.r.Intn(3) - 1
		}
	case 7:
		m.Packet.TimeAt = 0
	}
}

// claim returns what the chains say of the header and the proofs of a message to a side.
func (w *twin) claim(side int, m api.Msg) pair.Claim {
	from := w.chain(1 - side)
	made, _ := from.Prove(m.Height, key(m.Kind, m.Packet, m.Next))
	closing, _ := from.Prove(m.Height, path.Of(path.ChannelEnds, m.Packet.Dst, 0))
	_, committed := from.Header(m.Height)
	return pair.Claim{
		Msg: m, Told: slices.Contains(from.Headers(), m.Header),
		Good: committed && proof.Same(made, m.Proof), GoodClose: committed && proof.Same(closing, m.Close),
	}
}

func (w *twin) deliver(side int, m api.Msg) {
	tx, e := msg.Tx([]api.Msg{m})
	c := w.claim(side, m)
	if e != api.OK {
		if got := w.p.Do(side, c); got != api.ErrRange {
			w.t.Fatalf("the model accepts a message that is not valid: %v", m)
		}
		return
	}
	done := w.chain(side).Deliver(tx, w.chain(1-side).Headers())
	want := w.p.Do(side, c)
	if done.Results[0].Code != want {
		w.t.Fatalf("side %d, message %v: %d; the model: %d", side, m, done.Results[0].Code, want)
	}
	w.counts[outcome{m.Kind, want}]++
}

func (w *twin) update() {
	side := w.r.Intn(2)
	h, _ := w.chain(1 - side).Header(w.chain(1-side).Last() - w.r.Intn(2))
	if w.r.Intn(10) == 0 {
		h.Time++
	}
	w.deliver(side, api.Msg{Kind: api.MsgUpdate, Header: h})
}

func (w *twin) act() {
	side := w.r.Intn(2)
	switch n := w.r.Intn(20); {
	case n < 3:
		w.send()
	case n < 4:
		d := w.r.Intn(4) - 1
		if e, want := w.chain(side).Tick(d), w.p.Tick(side, d); e != want {
			w.t.Fatalf("Tick(%d): %d; the model: %d", d, e, want)
		}
	case n < 6:
		if e, want := w.chain(side).Commit(), w.p.Commit(side); e != want {
			w.t.Fatalf("Commit: %d; the model: %d", e, want)
		}
	case n < 9:
		w.update()
	default:
		if len(w.packets) > 0 {
			w.deliver(w.message())
		}
	}
}

// look returns what the store of a chain contains, as the model tells it.
func (w *twin) look(side int) pair.Look {
	c := w.chain(side)
	l := pair.Look{Height: c.Height(), Time: c.Time(), Last: c.Last()}
	for _, h := range c.States() {
		l.Known = append(l.Known, h.Height)
	}
	for _, e := range []api.End{scene.Open(side), scene.Ordered(side)} {
		v, _ := c.Now(path.Of(path.ChannelEnds, e, 0))
		x, _ := ends.Decode(v)
		number := func(kind int) int {
			v, _ := c.Now(path.Of(kind, e, 0))
			n, _, _ := leb.Next(v, 0)
			return n
		}
		l.Ends = append(l.Ends, pair.End{End: e, State: x, NextSend: number(path.NextSend), NextRecv: number(path.NextRecv), NextAck: number(path.NextAck)})
	}
	for _, p := range c.Pairs() {
		kind, e, seq, _ := path.Read(p.Key)
		x := &l.Ends[map[bool]int{true: 1}[e == scene.Ordered(side)]]
		switch kind {
		case path.Commitments:
			i := slices.IndexFunc(w.packets, func(q api.Packet) bool { return q.Src == e && q.Seq == seq })
			if p.Val != sha.Text(packet.Commit(w.packets[i])) {
				w.t.Fatalf("the commitment of %v", w.packets[i])
			}
			x.Kept = append(x.Kept, w.packets[i])
		case path.Receipts:
			x.Got = append(x.Got, seq)
		case path.Acks:
			x.Wrote = append(x.Wrote, seq)
		}
	}
	for i := range l.Ends {
		slices.SortFunc(l.Ends[i].Kept, func(p, q api.Packet) int { return p.Seq - q.Seq })
		slices.Sort(l.Ends[i].Got)
		slices.Sort(l.Ends[i].Wrote)
	}
	return l
}

func (w *twin) compare() {
	for side := range 2 {
		if got, want := w.p.Look(side), w.look(side); !reflect.DeepEqual(got, want) {
			w.t.Fatalf("side %d: the model has %v, the chain %v", side, got, want)
		}
	}
	t := w.s.Tables()
	items := plan.Items(plan.Jobs(w.chain(0), w.chain(1), w.s.Conf, t[0], t[1]))
	if due := w.p.Due(w.s.Conf.Paths); !slices.Equal(items, due) {
		w.t.Fatalf("planned %v, due %v", items, due)
	}
}

func TestChainsAsTheModel(t *testing.T) { // P0.10, P0.11, P18.1, P30.3, P30.4
	r := rand.New(rand.NewSource(30))
	counts := map[outcome]int{}
	for range 250 {
		w := newTwin(t, r, counts)
		for range 150 {
			w.act()
			if r.Intn(6) == 0 {
				w.compare()
			}
		}
	}
	codes := map[int][]api.Errno{
		api.MsgUpdate:  {api.OK, api.ErrHeader},
		api.MsgRecv:    {api.OK, api.ErrChannel, api.ErrClosed, api.ErrTimeout, api.ErrReceived, api.ErrOrder, api.ErrClient, api.ErrProof},
		api.MsgAck:     {api.OK, api.ErrChannel, api.ErrCommit, api.ErrOrder, api.ErrClient, api.ErrProof},
		api.MsgTimeout: {api.OK, api.ErrChannel, api.ErrCommit, api.ErrClient, api.ErrEarly, api.ErrRange, api.ErrReceived, api.ErrOrder, api.ErrProof},
		api.MsgOnClose: {api.OK, api.ErrChannel, api.ErrCommit, api.ErrClient, api.ErrProof, api.ErrReceived},
	}
	for kind, l := range codes {
		for _, e := range l {
			if counts[outcome{kind, e}] == 0 {
				t.Errorf("kind %d has never had error %d", kind, e)
			}
		}
	}
	t.Logf("the results: %v", counts)
}
