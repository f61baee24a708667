package client_test

import (
	"fmt"
	"math/rand"
	"slices"
	"strings"
	"testing"

	"herald/api"
	"herald/lists"
	"herald/pack"
)

// script is a client under random calls, and a server that is mostly right.
type script struct {
	*both
	r     *rand.Rand
	enc   *pack.Encoder
	part  map[int64]int // responses that have come in part: how many bytes are to come; below 0: any
	open  map[int64]bool
	unack int // SETTINGS that were heard, and not acknowledged
	tried map[string]int
}

func oneOf[T any](r *rand.Rand, l ...T) T { return l[r.Intn(len(l))] }

// somePath is one of few, so that requests and promises meet.
func somePath(r *rand.Rand) string { return fmt.Sprint("/", r.Intn(5)) }

func randomConf(r *rand.Rand) api.Conf {
	return api.Conf{Entries: oneOf(r, int64(0), 1, 2, 4, 4, 64), Bytes: oneOf(r, int64(0), 60, 200, 1000, 100000, lastTick), Life: oneOf(r, int64(0), 1, 5, 10, lastTick), Pending: oneOf(r, int64(0), 1, 3, 3, 64)}
}

func randomSet(r *rand.Rand) api.Set {
	set := standard()
	set.Table = oneOf(r, int64(0), 100, 4096, 65536)
	set.Push = oneOf(r, int64(0), 1, 1, 1, 1, 1)
	set.Streams = oneOf(r, int64(0), 3, top)
	set.Window = oneOf(r, int64(0), 10, 100, 65535, 65535, top)
	set.Frame = oneOf(r, int64(16384), 20000, 65536)
	set.List = oneOf(r, int64(1024), top)
	return set
}

func randomOrigins(r *rand.Rand) []string {
	all := []string{"https://x", "http://x", "https://y:444", "HTTPS://Z"}
	r.Shuffle(len(all), func(i, j int) { all[i], all[j] = all[j], all[i] })
	all = all[:r.Intn(3)]
	if !slices.Contains(all, "https://x") && r.Intn(6) > 0 {
		all = append(all, "https://x")
	}
	return all
}

func newScript(t *testing.T, r *rand.Rand) *script {
	t.Helper()
	s := &script{both: newBoth(t, randomSet(r), randomConf(r), randomOrigins(r)...), r: r, enc: pack.NewEncoder(), part: map[int64]int{}, open: map[int64]bool{}, tried: map[string]int{}}
	if r.Intn(5) == 0 {
		s.call()
		s.steps()
	}
	s.comes(s.theirSettings())
	return s
}

// comes lets bytes come, whole or in two pieces.
func (s *script) comes(text string) {
	s.t.Helper()
	at := s.r.Intn(2*len(text) + 1)
	if at < len(text) {
		s.recv(text[:at])
		text = text[at:]
	}
	s.recv(text)
}

func (s *script) theirSettings() string {
	var l []api.Param
	for range s.r.Intn(4) {
		l = append(l, oneOf(s.r, param(api.SetTable, oneOf(s.r, int64(0), 60, 5000)), param(api.SetPush, 0), param(api.SetStreams, oneOf(s.r, int64(0), 1, 2, 3, 100, 100)),
			param(api.SetWindow, oneOf(s.r, int64(0), 1, 3, 60, 65535, 200000)), param(api.SetFrame, oneOf(s.r, int64(16384), 20000, 16777215)), param(api.SetList, oneOf(s.r, int64(70), 167, 168, 200, 65536, 65536, 65536))))
	}
	return bytes(settingsFrame(l...))
}

// block is a list's frame, whole or in pieces.
func (s *script) block(head api.Frame, l []api.Field) string {
	block, _ := s.enc.Encode(l)
	head.Data = block
	if s.r.Intn(3) > 0 {
		head.Flags |= api.EndHeaders
		return bytes(head)
	}
	at := s.r.Intn(len(block) + 1)
	head.Data = block[:at]
	return bytes(head, api.Frame{Type: api.FrameContinuation, Flags: api.EndHeaders, Stream: head.Stream, Data: block[at:]})
}

// asksOne asks for something, mostly right.
func (s *script) asksOne() {
	s.t.Helper()
	q := get(somePath(s.r))
	q.Method = oneOf(s.r, "GET", "GET", "GET", "GET", "HEAD", "POST")
	if s.r.Intn(8) == 0 {
		q.Authority = oneOf(s.r, "X", "y:444", "x:443")
	}
	if s.r.Intn(4) == 0 {
		q.Fields = lists.Of("accept", oneOf(s.r, "1", "2"))
	}
	if q.Method == "POST" || s.r.Intn(6) == 0 {
		q.Body = long(oneOf(s.r, 0, 1, 5, 50, 300, 20000, 65536, 65537))
	}
	if s.r.Intn(6) == 0 {
		q.Fields = append(q.Fields, length(fmt.Sprint(len(q.Body)+s.r.Intn(10)/9)))
	}
	if held := s.m.held(); len(held) > 0 && s.r.Intn(3) == 0 {
		q = oneOf(s.r, held...).promised
	}
	if s.r.Intn(30) == 0 {
		q = oneOf(s.r, api.Request{}, get("/", fields(60, 2000)...), get("/", fields(61, 1)...), get("/", lists.Of("A", "b")...))
	}
	before := len(s.c.Answers())
	_, e := s.ask(q)
	s.tried[fmt.Sprint("ask ", int(e))]++
	if all := s.c.Answers(); len(all) > before {
		s.tried[fmt.Sprint("at once, cached ", all[before].Cached)]++
	}
}

// stream is mostly one on which a response may come.
func (s *script) stream(isOurs bool) (int64, bool) {
	var live []int64
	for _, q := range s.m.requests {
		if q.stream > 0 && isOurs && slices.Contains([]int{3, 4}, s.m.c.State(q.stream)) {
			live = append(live, q.stream)
		}
	}
	for id := int64(2); id <= s.promised && !isOurs; id += 2 {
		if st := s.m.c.State(id); st == reserved || st == 4 {
			live = append(live, id)
		}
	}
	if len(live) == 0 {
		return 0, false
	}
	return oneOf(s.r, live...), true
}

// promises lets one come, mostly a right one.
func (s *script) promises() {
	s.t.Helper()
	on, is := s.stream(true)
	if !is {
		return
	}
	q := get(somePath(s.r))
	if s.r.Intn(5) == 0 {
		q.Method = "HEAD"
	}
	if s.r.Intn(4) == 0 {
		q.Fields = lists.Of("accept", oneOf(s.r, "1", "2"))
	}
	l := listOf(q)
	switch s.r.Intn(16) {
	case 0:
		l = oneOf(s.r, wrongPromises()...)
	case 1:
		l = listOf(by(oneOf(s.r, "POST", "PUT"), q))
	case 2:
		l = lists.Joined(l, length(oneOf(s.r, "0", "0", "1", "00")))
	case 3:
		q.Authority = oneOf(s.r, "y", "z", "x:443", "X", "x:444", "y:444")
		l = listOf(q)
	}
	s.promised += oneOf(s.r, int64(2), 2, 2, 4)
	s.note("%s is promised on %d: %d", lists.Shown(l), on, s.promised)
	s.comes(s.block(api.Frame{Type: api.FramePromise, Stream: on, Last: s.promised}, l))
}

// replies lets a head come, mostly a right one.
func (s *script) replies(id int64) {
	s.t.Helper()
	l := status(oneOf(s.r, "200", "200", "200", "404", "204"))
	if s.r.Intn(4) == 0 {
		l = lists.Joined(l, api.Field{Name: "vary", Value: oneOf(s.r, "accept", "Accept, other", "*")})
	}
	size := -1
	if s.r.Intn(3) > 0 {
		size = oneOf(s.r, 0, 3, 3, 40, 20000, 65536, 70000)
		l = lists.Joined(l, length(fmt.Sprint(size)))
	}
	if s.r.Intn(20) == 0 {
		l = oneOf(s.r, wrongHeads()...)
	}
	end := size == 0 || len(l) > 0 && l[0].Value == "204" || s.r.Intn(12) == 0
	s.open[id], s.part[id] = !end, size
	s.note("%s on %d, end %v", lists.Shown(l), id, end)
	s.comes(s.block(api.Frame{Type: api.FrameHeaders, Flags: endFlag(end), Stream: id}, l))
}

// goesOn sends more of a response, or its head.
func (s *script) goesOn() {
	s.t.Helper()
	id, is := s.stream(s.r.Intn(2) == 0)
	if !is {
		return
	}
	if !s.open[id] {
		if s.m.c.State(id) != reserved && s.r.Intn(25) == 0 {
			s.comes(bytes(dataFrame(id, "ahead", s.r.Intn(2) == 0)))
			return
		}
		s.replies(id)
		return
	}
	left := s.part[id]
	n := oneOf(s.r, 0, 1, 3, 300, 9000, 16384, 16384, 16384)
	if left >= 0 && s.r.Intn(12) > 0 {
		n = min(n, left)
	}
	end := s.r.Intn(5) == 0
	if left >= 0 && s.r.Intn(12) > 0 {
		end = n == left
	}
	if left >= 0 {
		s.part[id] = max(left-n, 0)
	}
	if s.r.Intn(30) == 0 {
		s.note("a second head on %d", id)
		s.comes(s.block(api.Frame{Type: api.FrameHeaders, Flags: endFlag(end), Stream: id}, status("200")))
		return
	}
	s.comes(bytes(dataFrame(id, long(n), end)))
}

// frame sends something else.
func (s *script) frame() {
	s.t.Helper()
	id, is := s.stream(s.r.Intn(3) > 0)
	switch n := s.r.Intn(30); {
	case n < 9 && is && s.m.c.State(id) != reserved:
		s.comes(bytes(windowFrame(id, oneOf(s.r, int64(1), 2, 30, 1000, 100000))))
	case n < 14:
		s.comes(bytes(windowFrame(0, oneOf(s.r, int64(1), 2, 1000, 100000))))
	case n < 18:
		s.comes(s.theirSettings())
	case n < 20 && is:
		s.comes(bytes(resetFrame(id, oneOf(s.r, 0, s.r.Int63n(14)))))
	case n < 24 && s.unack > 0:
		s.unack--
		s.comes(bytes(ackFrame()))
		s.enc.SetMax(min(s.m.c.Ours().Table, 4096))
	case n < 25:
		s.comes(bytes(pingFrame("12345678")))
	case n < 26 && s.r.Intn(4) == 0:
		s.comes(bytes(goAwayFrame(s.r.Int63n(2*int64(len(s.m.requests))+2), s.r.Int63n(14))))
	case n < 27 && is && s.m.c.State(id) != reserved:
		s.comes(oneOf(s.r, bytes(windowFrame(id, 0)), raw(2, 0, uint32(id), "123")))
	case n < 28 && s.r.Intn(12) == 0:
		s.comes(oneOf(s.r, deaths()...).text)
	}
}

// call is one of the client's own.
func (s *script) call() {
	s.t.Helper()
	switch n := s.r.Intn(12); {
	case n < 6:
		s.asksOne()
	case n < 7:
		set := randomSet(s.r)
		if s.r.Intn(4) == 0 {
			set.List = 7
		}
		s.tried[fmt.Sprint("settings ", int(s.settings(set)))]++
	case n < 9:
		number := s.r.Intn(len(s.m.requests) + 2)
		if busy := slices.Concat(s.m.flying(), s.m.waiting()); len(busy) > 0 && s.r.Intn(3) == 0 {
			number = slices.Index(s.m.requests, oneOf(s.r, busy...)) + 1
		}
		s.tried[fmt.Sprint("cancel ", int(s.cancel(number)))]++
	default:
		s.tried[fmt.Sprint("tick ", int(s.tick(s.c.Now()+oneOf(s.r, int64(0), 1, 1, 1, 2, 5, 11, -1))))]++
	}
}

func (s *script) steps() {
	s.t.Helper()
	for range 1 + s.r.Intn(3) {
		pick := s.r.Intn(7) - 3
		if s.r.Intn(30) == 0 {
			pick = int(s.r.Uint64())
		}
		for _, e := range s.step(pick) {
			if e.Kind == api.EventSettings {
				s.unack++
			}
			s.tried[fmt.Sprint("event ", e.Kind, " ", min(e.Code, 12))]++
		}
	}
}

func (s *script) move() {
	s.t.Helper()
	switch n := s.r.Intn(20); {
	case n < 3:
		s.call()
	case n < 6:
		s.promises()
	case n < 13:
		s.goesOn()
	case n < 15:
		s.frame()
	default:
		s.steps()
	}
}

// ends lets all that has room go, and looks at everything.
func (s *script) ends() {
	s.t.Helper()
	s.whole()
	if _, dead := s.c.Dead(); !dead {
		s.finishes()
	}
	for n := 0; !s.c.Idle(); n++ {
		s.step(s.r.Intn(9))
		if n > 3000 {
			s.t.Fatalf("P23.1: %s: it doesn't come to an end", s.history())
		}
	}
	s.tick(min(lastTick, s.c.Now()+100))
	s.step(0)
	s.whole()
	for why, n := range s.m.whys {
		s.tried[why] += n
	}
	for _, a := range s.m.answers {
		s.tried[fmt.Sprint("answer ", a.Cached, a.Stream > 0, min(a.Code, 12))]++
	}
}

// finishes makes room for all.
func (s *script) finishes() {
	s.t.Helper()
	s.recv(bytes(settingsFrame(param(api.SetStreams, 10000), param(api.SetWindow, 1<<30), param(api.SetFrame, 65536)), windowFrame(0, 1<<30)))
	for _, q := range s.m.flying() {
		if s.m.c.Window(q.stream) < 1<<20 {
			s.recv(bytes(windowFrame(q.stream, 1<<20)))
		}
	}
}

// TestRandomScripts: asks, cancels, ticks, steps and a server's bytes, against the model.
func TestRandomScripts(t *testing.T) {
	r := rand.New(rand.NewSource(231))
	tried := map[string]int{}
	for range 700 {
		s := newScript(t, r)
		for range 160 {
			s.move()
			if _, dead := s.c.Dead(); dead && r.Intn(5) == 0 {
				break
			}
		}
		s.ends()
		for what, n := range s.tried {
			tried[what] += n
		}
	}
	for _, what := range []string{
		"ask 0", "ask 3", "ask 51", "ask 130", "ask 131", "ask 140", "at once, cached true", "at once, cached false", "settings 0", "settings 1", "cancel 0", "cancel 5", "tick 0", "tick 1",
		"promise malformed", "promise of a method", "promise with a length", "promise foreign", "promise too many", "promise held", "under way", "promise expired", "promise lost", "entry expired", "kept", "not kept", "thrown out", "long list",
		"event 1 0", "event 2 0", "event 4 1", "event 4 3", "event 4 6", "event 4 7", "event 4 8", "event 4 11", "event 5 0", "event 6 0", "event 7 1",
		"answer true true 0", "answer false true 0", "answer false false 0", "answer false false 1", "answer false false 7", "answer false false 8", "answer false false 11", "answer false false 12",
	} {
		if tried[what] < 12 {
			t.Errorf("%s %d times: too few to tell", what, tried[what])
		}
	}
}

// TestClientsApart: two in turns, each by its own model, and one that stands still.
func TestClientsApart(t *testing.T) {
	r := rand.New(rand.NewSource(232))
	for range 50 {
		all := []*script{newScript(t, r), newScript(t, r), newScript(t, r)}
		for range 200 {
			all[r.Intn(2)].move()
		}
		for _, s := range all {
			s.ends()
		}
	}
}

// TestOneConfTwice: two clients of the same origins, in unlike turns: what happens to
// one is nothing to the other.
func TestOneConfTwice(t *testing.T) {
	one, two := flown(t), flown(t)
	one.push(1, "/b", "B")
	two.look()
	two.wantWaits(get("/b"))
	one.asks(get("/b"))
	one.wantAnswers(cached(2, 2, "B"))
	one.recv(raw(0, 0, 0, ""))
	one.tick(99)
	two.wantStep(0, opened(3, get("/b")))
	two.reply(3, "direct")
	two.wantAnswers(direct(2, 3, "direct"))
	one.whole()
	two.whole()
}

// mutated is a text with some of it changed, left out, laid in, or said twice.
func mutated(r *rand.Rand, text string) string {
	for range 1 + r.Intn(3) {
		at := r.Intn(len(text))
		to := min(len(text), at+1+r.Intn(12))
		switch r.Intn(5) {
		case 0:
			text = text[:at] + string([]byte{text[at] ^ 1<<r.Intn(8)}) + text[at+1:]
		case 1:
			text = text[:at] + string([]byte{byte(r.Intn(256))}) + text[at+1:]
		case 2:
			text = text[:at] + text[to:]
		case 3:
			text = text[:to] + text[at:]
		default:
			text = text[:at] + raw(byte(r.Intn(11)), byte(r.Intn(64)), uint32(r.Intn(8)), long(r.Intn(9))) + text[at:]
		}
		if text == "" {
			return "\x00"
		}
	}
	return text
}

// holdBytes lets any bytes come, and some calls behind them.
func holdBytes(b *both, came string) {
	b.t.Helper()
	b.note("%x", came)
	b.recv(came)
	for pick := range 4 {
		b.step(pick)
	}
	endStory(b)
}

// TestAnyBytes: right texts that were tampered with.
func TestAnyBytes(t *testing.T) {
	r := rand.New(rand.NewSource(233))
	texts := serverTexts()[:5]
	lived := 0
	for range 2500 {
		b := story(t)
		holdBytes(b, mutated(r, oneOf(r, texts...)))
		if _, dead := b.c.Dead(); !dead {
			lived++
		}
	}
	if lived < 250 || lived > 2250 {
		t.Errorf("%d of 2500 clients lived: too few, or too many", lived)
	}
}

// TestRandomBytes: bytes without any sense, to clients that stand and to new ones.
func TestRandomBytes(t *testing.T) {
	r := rand.New(rand.NewSource(234))
	for i := range 1500 {
		b := newBoth(t, standard(), usual(), "https://x")
		if i%2 == 0 {
			b = story(t)
		}
		var came []byte
		for range r.Intn(60) {
			came = append(came, byte(r.Intn(256))>>r.Intn(9))
		}
		holdBytes(b, string(came))
	}
}

// FuzzBytes: any bytes, whole against the model, and in two pieces against the whole.
func FuzzBytes(f *testing.F) {
	for _, text := range serverTexts() {
		f.Add(text, 20, 3)
	}
	f.Fuzz(func(t *testing.T, came string, at, pick int) {
		if len(came) > 4000 {
			return // the model is slow
		}
		b := story(t)
		b.recv(came)
		b.step(pick)
		holdBytes(b, "")
		cut := story(t)
		at = min(max(at, 0), len(came))
		cut.recv(came[:at])
		cut.recv(came[at:])
		cut.step(pick)
		holdBytes(cut, "")
		if len(b.c.Trace()) != len(cut.c.Trace()) || !sameAnswers(b.c.Answers(), cut.c.Answers()) {
			t.Fatalf("P23.1: cut at %d it is another: %s, want %s", at, shownAnswers(cut.c.Answers()), shownAnswers(b.c.Answers()))
		}
	})
}

// FuzzCalls: two bytes a call, which one and with what.
func FuzzCalls(f *testing.F) {
	f.Add("\x00\x01\x10\x03\x21\x05\x30\x07\x45\x09\x02\x02\x01\x01\x03\x00")
	f.Add("\x06\x00\x07\x02\x08\x01\x01\x02\x09\x03\x0a\x33\x0b\x11\x04\x01\x05\x00\x00\x00\x03\x02")
	f.Fuzz(func(t *testing.T, calls string) {
		b := story(t)
		for i := 0; i+1 < min(len(calls), 160); i += 2 {
			what, with := calls[i], calls[i+1]
			id := int64(with & 15)
			path := oneAt(with, "/b", "/c", "/page", "/d")
			switch what % 12 {
			case 0:
				b.step(int(int8(with)))
			case 1:
				b.ask(by(oneAt(with>>2, "GET", "GET", "HEAD", "POST"), get(path)))
			case 2:
				b.ask(post(path, strings.Repeat("x", int(with>>2))))
			case 3:
				b.cancel(int(with))
			case 4:
				b.tick(b.c.Now() + int64(with>>4))
			case 5:
				b.recv(bytes(settingsFrame(param(int(with&7), int64(what>>3)*int64(with>>3)))))
			case 6, 7:
				b.promise(max(id|1, 1), listOf(by(oneAt(with>>4, "GET", "GET", "HEAD", "PUT"), get(path))))
			case 8:
				b.recv(bytes(headersFrame(max(id, 1), status(oneAt(with>>4, "200", "204", "100")), with>>6 == 0)))
			case 9:
				b.recv(bytes(dataFrame(max(id, 1), strings.Repeat("y", int(with>>5)), with>>7 == 0)))
			case 10:
				b.recv(bytes(oneAt(with>>4, resetFrame(max(id, 1), 8), windowFrame(id, 3), pingFrame("12345678"), goAwayFrame(id, 0))))
			default:
				b.push(max(id|1, 1), path, strings.Repeat("z", int(with>>6)))
			}
		}
		endStory(b)
	})
}

func oneAt[T any](i byte, l ...T) T { return l[int(i)%len(l)] }
