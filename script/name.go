package script

import "herald/api"

// The names with which the lines of a world begin, but for its first.
const (
	serverName = "server" // also of a move, and behind trace
	clientName = "client" // likewise
	confName   = "conf"
	pageName   = "page"
	ruleName   = "rule"
	originName = "origin"
	endName    = "end"
)

// neverName stands ahead of a field that may not be put into a table.
const neverName = "never"

// What begins a command's line, by the command's kind; a move's line begins by the
// move's kind.
var (
	kindNames = [...]string{
		World: "world", Rounds: "rounds", Answers: "answers", Log: "log", Cache: "cache",
		Pipes: "pipes", Still: "still", Dead: "dead", Trace: "trace",
	}
	moveNames = [...]string{
		api.MoveAsk: "ask", api.MoveCancel: "cancel",
		api.MoveServer: serverName, api.MoveClient: clientName,
		api.MoveToServer: "toserver", api.MoveToClient: "toclient", api.MoveTick: "tick",
		api.MovePut: "put", api.MoveSet: "set", api.MoveForge: "forge",
	}
)

// kindOf is 0 for what begins no line of a kind.
func kindOf(name string) int {
	for kind, other := range kindNames {
		if other == name {
			return kind
		}
	}
	return 0
}

// moveOf is 0 for what begins no line of a move.
func moveOf(name string) int {
	for kind, other := range moveNames {
		if other == name {
			return kind
		}
	}
	return 0
}
