package script_test

import (
	"fmt"
	"reflect"
	"slices"
	"strings"
	"testing"

	"herald/api"
	"herald/lists"
	"herald/script"
)

// The document's numbers, written out.
const (
	world   = 1
	move    = 2
	rounds  = 3
	answers = 4
	log     = 5
	cache   = 6
	pipes   = 7
	still   = 8
	dead    = 9
	trace   = 10

	moveAsk      = 1
	moveCancel   = 2
	moveServer   = 3
	moveClient   = 4
	moveToServer = 5
	moveToClient = 6
	moveTick     = 7
	movePut      = 8
	moveSet      = 9
	moveForge    = 10

	longError   = api.Errno(3)
	scriptError = api.Errno(260)

	mostBytes = 65536
	mostLines = 1024
	mostLine  = 4096

	top     = 1<<31 - 1
	longest = 1<<63 - 1
	least   = -1 << 63
)

func TestNumbers(t *testing.T) {
	got := []int{script.World, script.Move, script.Rounds, script.Answers, script.Log, script.Cache, script.Pipes, script.Still, script.Dead, script.Trace}
	if !slices.Equal(got, []int{world, move, rounds, answers, log, cache, pipes, still, dead, trace}) {
		t.Errorf("the kinds are %v", got)
	}
}

// lined is lines as a text, each with its end.
func lined(lines ...string) string {
	if len(lines) == 0 {
		return ""
	}
	return strings.Join(lines, "\n") + "\n"
}

// exampleLines are the fourth example's.
func exampleLines() []string {
	return []string{
		`world`, `server 4096 1 2147483647 65535 16384 2147483647`, `client 4096 1 100 65535 16384 65536`, `conf 4 1000 10 4`,
		`page "x" "/a" 200 "" "" "A"`, `rule "x" "/a" "x" "/b"`, `origin "https://x"`, `end`,
	}
}

func exampleWorld() api.World {
	return api.World{
		Server:  api.Set{Table: 4096, Push: 1, Streams: top, Window: 65535, Frame: 16384, List: top},
		Client:  api.Set{Table: 4096, Push: 1, Streams: 100, Window: 65535, Frame: 16384, List: 65536},
		Conf:    api.Conf{Entries: 4, Bytes: 1000, Life: 10, Pending: 4},
		Pages:   []api.Page{{Authority: "x", Path: "/a", Status: 200, Choices: []api.Choice{{Body: "A"}}}},
		Rules:   []api.Rule{{Of: api.Target{Authority: "x", Path: "/a"}, Push: []api.Target{{Authority: "x", Path: "/b"}}}},
		Origins: []string{"https://x"},
	}
}

func moved(m api.Move) script.Command { return script.Command{Kind: move, Move: m} }

// numbered is a move that has a number alone.
func numbered(kind int, n int64) script.Command { return moved(api.Move{Kind: kind, N: n}) }

func asked(q api.Request) script.Command { return moved(api.Move{Kind: moveAsk, Request: q}) }

func forged(n int64, bytes string) script.Command {
	return moved(api.Move{Kind: moveForge, N: n, Bytes: bytes})
}

func putOf(p api.Page) script.Command { return moved(api.Move{Kind: movePut, Page: p}) }

func worldOf(w api.World) script.Command { return script.Command{Kind: world, World: w} }

// tidy has nil for each list that is empty, and lists of its own.
func tidy(l []script.Command) []script.Command {
	l = slices.Concat(l)
	for i := range l {
		w, m := &l[i].World, &l[i].Move
		w.Pages, w.Rules, w.Origins = slices.Concat(w.Pages), slices.Concat(w.Rules), slices.Concat(w.Origins)
		for k := range w.Pages {
			w.Pages[k].Choices = slices.Concat(w.Pages[k].Choices)
		}
		for k := range w.Rules {
			w.Rules[k].Push = slices.Concat(w.Rules[k].Push)
		}
		m.Request.Fields, m.Page.Choices = slices.Concat(m.Request.Fields), slices.Concat(m.Page.Choices)
	}
	return l
}

// same takes an empty list for none.
func same(a, b []script.Command) bool { return reflect.DeepEqual(tidy(a), tidy(b)) }

const mostShown = 600 // bytes of what an error tells

// shown is a text as an error tells it: a short one as it stands.
func shown(s string) string {
	if len(s) > mostShown {
		return lists.ShownText(s)
	}
	return "{" + strings.ReplaceAll(s, "\n", " / ") + "}"
}

// brief is anything else as an error tells it.
func brief(x any) string {
	s := fmt.Sprint(x)
	return s[:min(len(s), mostShown)]
}

// holdParse holds Parse against the model, and what it tells to P26.2: whether it
// takes the text.
func holdParse(t *testing.T, text string) ([]script.Command, bool) {
	t.Helper()
	got, e := script.Parse(text)
	want, wantError := modelParse(text)
	if e != wantError || !same(got, want) {
		t.Fatalf("P26.1: Parse(%s) = %s, %d, want %s, %d", shown(text), brief(got), e, brief(want), wantError)
	}
	if e != 0 && len(got) != 0 {
		t.Fatalf("R2: beside the error %d of %s stand %d commands", e, shown(text), len(got))
	}
	if e == 0 {
		holdPrint(t, got)
	}
	return got, e == 0
}

// holdPrint holds Print against the model, and what it tells to P26.2: whether it
// takes the commands.
func holdPrint(t *testing.T, l []script.Command) (string, bool) {
	t.Helper()
	got, e := script.Print(l)
	if want, wantError := modelPrint(l, modelQuote); got != want || e != wantError {
		t.Fatalf("P26.1: Print(%s) = %s, %d, want %s, %d", brief(l), shown(got), e, shown(want), wantError)
	}
	if e != 0 {
		return "", false
	}
	back, e := script.Parse(got)
	if want := named(l); e != 0 || !same(back, want) {
		t.Fatalf("P26.2: Parse(%s) = %s, %d, want %s", shown(got), brief(back), e, brief(want))
	}
	if again, e := script.Print(back); again != got || e != 0 {
		t.Fatalf("P26.2: Print of what %s is read as: %s, %d", shown(got), shown(again), e)
	}
	return got, true
}

// wantParse holds that the text says just these.
func wantParse(t *testing.T, text string, want ...script.Command) {
	t.Helper()
	if got, e := script.Parse(text); e != 0 || !same(got, want) {
		t.Errorf("P26.1: Parse(%s) = %s, %d, want %s", shown(text), brief(got), e, brief(want))
	}
	holdParse(t, text)
}

func wantRefused(t *testing.T, want api.Errno, text string) {
	t.Helper()
	if got, e := script.Parse(text); e != want || len(got) != 0 {
		t.Errorf("P26.1: Parse(%s): %d commands, %d, want %d", shown(text), len(got), e, want)
	}
	holdParse(t, text)
}

func wantPrint(t *testing.T, want string, l ...script.Command) {
	t.Helper()
	if got, e := script.Print(l); got != want || e != 0 {
		t.Errorf("P26.1: Print(%s) = %s, %d, want %s", brief(l), shown(got), e, shown(want))
	}
	holdPrint(t, l)
}

func wantUnprinted(t *testing.T, want api.Errno, l ...script.Command) {
	t.Helper()
	if got, e := script.Print(l); got != "" || e != want {
		t.Errorf("P26.1: Print(%s) = %s, %d, want %d", brief(l), shown(got), e, want)
	}
	holdPrint(t, l)
}

func wantFrame(t *testing.T, want string, f api.Frame) {
	t.Helper()
	if got := script.Frame(f); got != want {
		t.Errorf("P26.1: Frame(%s) = %s, want %s", brief(f), shown(got), shown(want))
	}
	if model := modelFrame(f); want != model {
		t.Errorf("the model tells of Frame(%s) %s, want %s", brief(f), shown(model), shown(want))
	}
}

// The six examples.

func TestFirstExample(t *testing.T) {
	wantParse(t, "server 3\nanswers", numbered(moveServer, 3), script.Command{Kind: answers})
	wantParse(t, "")
	wantParse(t, "#x\n\n\n#x\n")
	wantParse(t, "#x")
}

func TestSecondExample(t *testing.T) {
	for _, s := range []string{
		`server`, `server 03`, `server -0`, `server  3`, `server 3 `, ` server 3`, `server 9223372036854775808`, `servers 3`, `trace`, `end`, `world`, `ask "GET"`,
		`forge 0 "a`, `forge 0 "\q"`, `forge 0 "\x4"`, `forge 0 "\xAB"`, `forge 0 a`,
		"\tserver 3", "server\t3", "server 3\t", "server 3\r", "\rserver 3", "server\r3", "\t", "\r", "forge 0 \"\xc8\"",
	} {
		wantRefused(t, scriptError, s)
		wantRefused(t, scriptError, s+"\n")
		wantRefused(t, scriptError, lined("answers", s, "answers"))
	}
	wantParse(t, "server 3\nserver 9223372036854775807", numbered(moveServer, 3), numbered(moveServer, longest))
}

func TestThirdExample(t *testing.T) {
	wantParse(t, `forge 0 "a\x41\\\""`, forged(0, `aA\"`))
	wantPrint(t, `forge 0 "aA\\\""`+"\n", forged(0, `aA\"`))
}

func TestFourthExample(t *testing.T) {
	l := exampleLines()
	wantParse(t, lined(l...), worldOf(exampleWorld()))
	wantPrint(t, lined(l...), worldOf(exampleWorld()))
	wantRefused(t, scriptError, lined(slices.Concat(l[:3], l[4:])...))
	wantRefused(t, scriptError, lined(slices.Concat(l[:4], l[5:6], l[4:5], l[6:])...))
	wantRefused(t, scriptError, lined(l[:7]...))
}

func TestFifthExample(t *testing.T) {
	fields := []api.Field{{Name: "accept", Value: "y"}, {Name: "cookie", Value: "z", Never: true}}
	wantParse(t, `ask "GET" "https" "x" "/" "" "accept" "y" never "cookie" "z"`, asked(api.Request{Method: "GET", Scheme: "https", Authority: "x", Path: "/", Fields: fields}))
	wantUnprinted(t, scriptError, numbered(0, 0))
	wantUnprinted(t, scriptError, script.Command{Kind: 11})
}

func TestSixthExample(t *testing.T) {
	wantFrame(t, `0 1 3 data "hi"`, api.Frame{Flags: 1, Stream: 3, Data: "hi"})
	wantFrame(t, `4 0 0 param 4 100`, api.Frame{Type: 4, Params: []api.Param{{ID: 4, Value: 100}}})
	wantFrame(t, `0 0 0`, api.Frame{})
}
