package batch_test

import (
	"math"
	"math/rand"
	"reflect"
	"slices"
	"strings"
	"testing"

	"lighterman/api"
	"lighterman/batch"
	"lighterman/gas"
	"lighterman/msg"
	"lighterman/path"
	"lighterman/plan"
	"lighterman/proof"
	"lighterman/scene"
)

func update(height int) api.Msg {
	return api.Msg{Kind: api.MsgUpdate, Header: api.Header{Height: height}}
}

// sized returns a Recv whose packet has n bytes of data.
func sized(n int) api.Msg {
	p := api.Packet{Src: scene.Open(0), Dst: scene.Open(1), Seq: 1, Data: strings.Repeat("x", n)}
	return api.Msg{Kind: api.MsgRecv, Packet: p, Height: 1}
}

func bytesOf(l ...api.Msg) int {
	s, _ := msg.Tx(l)
	return len(s)
}

const great = 1 << 40

func wide() api.Limits { return api.Limits{Gas: great, Bytes: great, Count: great} }

func TestFits(t *testing.T) { // P28.1
	two := []api.Msg{update(1), sized(9)}
	bytes, price := bytesOf(two...), gas.Total(two)
	for i, c := range []struct {
		l    api.Limits
		ms   []api.Msg
		want bool
	}{
		{api.Limits{Gas: price, Bytes: bytes, Count: 2}, two, true}, {api.Limits{Gas: price - 1, Bytes: bytes, Count: 2}, two, false},
		{api.Limits{Gas: price, Bytes: bytes - 1, Count: 2}, two, false}, {api.Limits{Gas: price, Bytes: bytes, Count: 1}, two, false},
		{api.Limits{Bytes: 1}, nil, true}, {api.Limits{}, nil, false}, {api.Limits{Gas: -1, Bytes: 1}, nil, false}, {api.Limits{Bytes: 1, Count: -1}, nil, false}, {api.Limits{Gas: math.MinInt, Bytes: math.MinInt, Count: math.MinInt}, two, false},
		{wide(), []api.Msg{update(1), {}}, false}, {wide(), slices.Repeat([]api.Msg{update(1)}, 64), true}, {wide(), slices.Repeat([]api.Msg{update(1)}, 65), false},
		{wide(), slices.Repeat([]api.Msg{update(1)}, 200), false},
	} {
		if batch.Fits(c.l, c.ms) != c.want {
			t.Errorf("case %d is not %t", i, c.want)
		}
	}
}

func cut(t *testing.T, l api.Limits, up, ms []api.Msg, groups []int, txs [][]int, skipped []int) {
	t.Helper()
	got, lost := batch.Cut(l, up, ms, groups)
	if len(got) != len(txs) || len(txs) > 0 && !reflect.DeepEqual(got, txs) || !slices.Equal(lost, skipped) {
		t.Errorf("Cut: %v, %v, not %v, %v", got, lost, txs, skipped)
	}
}

func TestCut(t *testing.T) { // P28.1
	up := []api.Msg{update(1)}
	three := []api.Msg{sized(1), sized(2), sized(3)}
	counted := func(n int) api.Limits { return api.Limits{Gas: great, Bytes: great, Count: n} }
	cut(t, counted(2), up, three, nil, [][]int{{0}, {1, 2}}, nil)
	cut(t, counted(2), nil, three, nil, [][]int{{0, 1}, {2}}, nil)
	cut(t, counted(2), []api.Msg{update(1), {}, sized(1)}, three, nil, [][]int{{0}, {1, 2}}, nil)
	cut(t, counted(1), nil, three, nil, [][]int{{0}, {1}, {2}}, nil)
	cut(t, counted(1), up, three, nil, nil, []int{0, 1, 2})
	cut(t, counted(9), up, nil, nil, nil, nil)
	cut(t, api.Limits{}, nil, three, nil, nil, []int{0, 1, 2})
	cut(t, wide(), []api.Msg{{}}, three, nil, nil, []int{0, 1, 2})
	cut(t, wide(), nil, []api.Msg{sized(1), {}, sized(2)}, nil, [][]int{{0, 2}}, []int{1})
	cut(t, wide(), up, slices.Repeat(three, 30), nil, [][]int{count(0, 63), count(63, 90)}, nil)
	// A message that fits alone, and not together with up, is skipped wherever it stands.
	big := []api.Msg{sized(1), sized(100), sized(2)}
	tight := api.Limits{Gas: great, Bytes: bytesOf(sized(100)) + bytesOf(update(1)) - 2, Count: 9}
	cut(t, tight, up, big, nil, [][]int{{0, 2}}, []int{1})
	tight.Bytes++
	cut(t, tight, up, big, nil, [][]int{{0}, {1, 2}}, nil)
	cut(t, api.Limits{Gas: gas.Total(three[:2]), Bytes: great, Count: 9}, nil, three, nil, [][]int{{0, 1}, {2}}, nil)
	cut(t, api.Limits{Gas: gas.Total(three[:2]) - 1, Bytes: great, Count: 9}, nil, three, nil, [][]int{{0}, {1}, {2}}, nil)
}

// count returns the numbers from from up to below to.
func count(from, to int) []int {
	var l []int
	for i := from; i < to; i++ {
		l = append(l, i)
	}
	return l
}

func TestCutGroups(t *testing.T) { // P28.1
	l := api.Limits{Gas: great, Bytes: bytesOf(sized(50)), Count: 1}
	big, small := sized(100), sized(0)
	ms := []api.Msg{small, big, small, small, small, big, small}
	cut(t, l, nil, ms, []int{1, 1, 1, 2, 1, 2, 2}, [][]int{{0}, {3}}, []int{1, 2, 4, 5, 6})
	cut(t, l, nil, ms, []int{0, 0, 0, 0, 0, 0, 0}, [][]int{{0}, {2}, {3}, {4}, {6}}, []int{1, 5})
	cut(t, l, nil, ms, []int{-1, -1, -1, 5, -1, 5, math.MaxInt}, [][]int{{0}, {2}, {3}, {4}, {6}}, []int{1, 5})
	cut(t, l, nil, ms, []int{1, 1, 1}, [][]int{{0}, {2}, {3}, {4}, {6}}, []int{1, 5})
	cut(t, l, nil, ms, []int{1, 1, 1, 1, 1, 1, 1, 1}, [][]int{{0}, {2}, {3}, {4}, {6}}, []int{1, 5})
}

func TestGroups(t *testing.T) { // P28.2
	job := func(kind, to, n int, seq int, ordered bool) plan.Job {
		return plan.Job{Item: api.Item{Kind: kind, To: to, End: api.End{Port: "p", Chan: n}, Seq: seq}, Ordered: ordered}
	}
	js := []plan.Job{
		job(api.Timeout, 0, 1, 1, true), job(api.Recv, 0, 1, 1, false), job(api.Recv, 0, 1, 1, true), job(api.Recv, 0, 1, 2, true), job(api.Ack, 0, 1, 1, true), job(api.Recv, 1, 1, 3, true),
		job(api.Recv, 0, 2, 3, true), job(api.OnClose, 0, 1, 1, true), job(api.Ack, 0, 1, 7, true), job(api.Ack, 0, 1, 7, false), job(api.Recv, 0, 1, 3, true), job(api.Wait, 0, 1, 3, true),
	}
	if got := batch.Groups(js); !slices.Equal(got, []int{0, 0, 1, 1, 2, 3, 4, 0, 2, 0, 1, 0}) || len(batch.Groups(nil)) != 0 {
		t.Errorf("Groups: %v", got)
	}
}

func TestUpdate(t *testing.T) { // P28.3
	s := scene.New()
	a, b := s.Chains[0], s.Chains[1]
	if got := batch.Update(b, a); len(got) != 0 {
		t.Errorf("Update before a block: %v", got)
	}
	a.Commit()
	a.Tick(3)
	a.Commit()
	h, _ := a.Header(2)
	if got := batch.Update(b, a); len(got) != 1 || !msg.Same(got[0], api.Msg{Kind: api.MsgUpdate, Header: h}) || len(batch.Update(a, b)) != 0 {
		t.Errorf("Update: %v", got)
	}
	s.Do(1)
	if got := batch.Update(b, a); len(got) != 0 {
		t.Errorf("Update of a known height: %v", got)
	}
	a.Commit()
	if got := batch.Update(b, a); len(got) != 1 || got[0].Header.Height != 3 {
		t.Errorf("Update of the next height: %v", got)
	}
}

// relayed returns a scene in which the chain b has received a packet on each channel, and has sent one.
func relayed() *scene.Scene {
	s := scene.New()
	p, q := s.Send(0, scene.Open(0), "x", 0, 0), s.Send(0, scene.Ordered(0), "x", 0, 0)
	s.Send(1, scene.Open(1), "x", 0, 0)
	s.Send(1, scene.Ordered(1), "x", 0, 0)
	s.Commit()
	s.Do(1, s.Recv(1, p), s.Recv(1, q))
	s.Commit()
	return s
}

func TestBuild(t *testing.T) { // P28.3
	b := relayed().Chains[1]
	prove := func(kind int, e api.End, seq int) api.Proof {
		q, _ := b.Prove(2, path.Of(kind, e, seq))
		return q
	}
	for _, ordered := range []bool{false, true} {
		end, next := scene.Open, 0
		if ordered {
			end, next = scene.Ordered, 7
		}
		to := api.Packet{Src: end(0), Dst: end(1), Seq: 1, Data: "x"}
		from := api.Packet{Src: end(1), Dst: end(0), Seq: 1, Data: "x"}
		far := prove(path.Receipts, end(1), 1)
		if ordered {
			far = prove(path.NextRecv, end(1), 0)
		}
		for _, c := range []struct {
			kind int
			want api.Msg
		}{
			{api.Recv, api.Msg{Kind: api.MsgRecv, Packet: from, Height: 2, Proof: prove(path.Commitments, end(1), 1)}},
			{api.Ack, api.Msg{Kind: api.MsgAck, Packet: to, Ack: "ok:x", Height: 2, Proof: prove(path.Acks, end(1), 1)}},
			{api.Timeout, api.Msg{Kind: api.MsgTimeout, Packet: to, Next: next, Height: 2, Proof: far}},
			{api.OnClose, api.Msg{Kind: api.MsgOnClose, Packet: to, Next: next, Height: 2, Proof: far, Close: prove(path.ChannelEnds, end(1), 0)}},
		} {
			j := plan.Job{Item: api.Item{Kind: c.kind}, Packet: c.want.Packet, Ack: "ok:x", Next: next, Height: 2, Ordered: ordered}
			if m, e := batch.Build(b, j); !msg.Same(m, c.want) || e != api.OK || len(c.want.Proof.Leaves) != 1 {
				t.Errorf("kind %d: %v, %d", c.kind, m, e)
			}
		}
	}
}

func TestBuildFails(t *testing.T) { // P28.3
	s := scene.New()
	s.Commit()
	good := plan.Job{Item: api.Item{Kind: api.Ack}, Packet: api.Packet{Src: scene.Open(0), Dst: scene.Open(1), Seq: 1}, Ack: "no", Height: 1}
	for i, c := range []struct {
		f    func(j *plan.Job)
		want api.Errno
	}{
		{func(j *plan.Job) {}, api.OK}, {func(j *plan.Job) { j.Height = 2 }, api.ErrNone}, {func(j *plan.Job) { j.Height = 0 }, api.ErrNone}, {func(j *plan.Job) { j.Height = -1; j.Item.Kind = 9 }, api.ErrNone},
		{func(j *plan.Job) { j.Item.Kind = api.Gone }, api.ErrRange}, {func(j *plan.Job) { j.Item.Kind = api.Wait }, api.ErrRange}, {func(j *plan.Job) { j.Item.Kind = -1 }, api.ErrRange},
		{func(j *plan.Job) { j.Ack = "" }, api.ErrRange}, {func(j *plan.Job) { j.Packet.Seq = 0 }, api.ErrRange}, {func(j *plan.Job) { j.Packet.Dst.Port = "" }, api.ErrRange},
		{func(j *plan.Job) { j.Item.Kind = api.Timeout; j.Next = -1 }, api.ErrRange}, {func(j *plan.Job) { j.Item.Kind = api.OnClose; j.Next = api.MaxSeq + 2 }, api.ErrRange},
		{func(j *plan.Job) { j.Item.Kind = api.Recv; j.Next = -1; j.Ack = "" }, api.OK},
	} {
		j := good
		c.f(&j)
		m, e := batch.Build(s.Chains[1], j)
		if e != c.want || msg.May(m) != (e == api.OK) || e != api.OK && !msg.Same(m, api.Msg{}) {
			t.Errorf("case %d: %v, %d", i, m, e)
		}
	}
}

func TestEveryMessageOnce(t *testing.T) { // P28.4
	r := rand.New(rand.NewSource(28))
	for range 300 {
		var ms []api.Msg
		var groups []int
		for range r.Intn(40) {
			ms = append(ms, sized(r.Intn(200)))
			groups = append(groups, r.Intn(4))
		}
		up := slices.Repeat([]api.Msg{update(1)}, r.Intn(2))
		l := api.Limits{Gas: 2000 + r.Intn(6000), Bytes: 150 + r.Intn(600), Count: 1 + r.Intn(5)}
		txs, skipped := batch.Cut(l, up, ms, groups)
		all := slices.Clone(skipped)
		for i, tx := range txs {
			together := func(indices []int) []api.Msg {
				var part []api.Msg
				if i == 0 {
					part = append(part, up...)
				}
				for _, k := range indices {
					part = append(part, ms[k])
				}
				return part
			}
			if len(tx) == 0 || !batch.Fits(l, together(tx)) {
				t.Fatalf("transaction %d of %v does not fit", i, txs)
			}
			if i+1 < len(txs) && batch.Fits(l, together(append(slices.Clone(tx), txs[i+1][0]))) {
				t.Fatalf("transaction %d of %v could have one message more", i, txs)
			}
			all = append(all, tx...)
		}
		slices.Sort(all)
		if !slices.Equal(all, count(0, len(ms))) {
			t.Fatalf("%d messages: %v, %v", len(ms), txs, skipped)
		}
	}
}

func TestMemory(t *testing.T) { // P0.4
	ms := []api.Msg{sized(1), sized(2)}
	up := append(make([]api.Msg, 0, 4), update(1))
	spare := up[:2]
	txs, _ := batch.Cut(api.Limits{Gas: great, Bytes: great, Count: 2}, up, ms, nil)
	_ = append(txs[0], 7)
	if spare[1].Kind != 0 || txs[1][0] != 1 || !proof.Same(ms[0].Proof, api.Proof{}) {
		t.Error("lists share memory")
	}
}
